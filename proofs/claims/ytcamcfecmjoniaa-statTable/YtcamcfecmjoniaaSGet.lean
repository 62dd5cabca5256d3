/- Contract of the reference's Static. -/
import Derived.Test.YtcamcfecmjoniaaSKnown
namespace Go.Proofs.Ytcamcfecmjoniaa
open Go.RowKit St

/-- What stands at place i of the table (from 1). -/
def stg (i : Int) : Fld × Bool := if 1 ≤ i ∧ i ≤ 61 then (⟨nm (i.toNat - 1), vl (i.toNat - 1), false⟩, true) else (⟨⟨#[]⟩, ⟨#[]⟩, false⟩, false)
def StPost (w : World) (s : Fld × Bool) (e : Ending) (w' : World) : Prop := e = .returned (.tuple #[.agg #[.string s.1.name, .string s.1.value, .bool s.1.never], .bool s.2]) ∧ Below w.heap.size w w'
theorem tab_at {w : World} {g : Nat} (h : AtS w g tab) (i : Nat) (hi : i < 61) : w.cell? ⟨g, 2 * i, none⟩ = some (.string (nm i)) ∧ w.cell? ⟨g, 2 * i + 1, none⟩ = some (.string (vl i)) := by
  have h0 := h.2 (2 * i) (by rw [tab_len]; omega)
  have h1 := h.2 (2 * i + 1) (by rw [tab_len]; omega)
  rw [h0, h1, nm, vl, List.getD, List.getD, List.getElem?_eq_getElem (by rw [tab_len]; omega), List.getElem?_eq_getElem (by rw [tab_len]; omega)]
  exact ⟨rfl, rfl⟩
set_option maxRecDepth 100000 in
set_option maxHeartbeats 4000000 in
theorem rstat_any (i : Int) (w : World) (hi : -9223372036854775808 ≤ i ∧ i ≤ 9223372036854775807) : Calls Try.prog 10 #[.int .i64 i] w (StPost w (stg i)) := by
  have hb0 : Below w.heap.size w (w.alloc (.cells #[.string ⟨#[]⟩, .string ⟨#[]⟩, .bool false] 26)) := (Below.refl _ _).alloc (Nat.le_refl _) _
  go_enter Try.func10, Try.ntmps10
  go_wp2_with fail
  with_reducible refine (rknown_any _).mono ?_
  rintro e w2 ⟨g, rfl, hat, hb2⟩
  obtain ⟨g0, hg0⟩ : ∃ g, g = w.heap.size := ⟨_, rfl⟩
  have hlt0 : g0 < (w.alloc (.cells #[.string ⟨#[]⟩, .string ⟨#[]⟩, .bool false] 26)).heap.size := by rw [hg0]; simp
  have hh : w2.heap[g0]? = some (.cells #[.string ⟨#[]⟩, .string ⟨#[]⟩, .bool false] 26) := by
    rw [hb2.block g0 hlt0, hg0]
    exact heap_alloc_new w _
  have q0 : w2.cell? ⟨g0, 0, none⟩ = some (.string ⟨#[]⟩) := cell_of_row _ g0 0 _ 26 _ hh
  have q1 : w2.cell? ⟨g0, 1, none⟩ = some (.string ⟨#[]⟩) := cell_of_row _ g0 1 _ 26 _ hh
  have q2 : w2.cell? ⟨g0, 2, none⟩ = some (.bool false) := cell_of_row _ g0 2 _ 26 _ hh
  have f0 : w2.frozen? ⟨g0, 0, none⟩ = false := frozen_of_row w2 g0 0 _ 26 hh
  have f1 : w2.frozen? ⟨g0, 1, none⟩ = false := frozen_of_row w2 g0 1 _ 26 hh
  have f2 : w2.frozen? ⟨g0, 2, none⟩ = false := frozen_of_row w2 g0 2 _ 26 hh
  have hb3 := hb0.trans (hb2.mono hb0.size)
  have hgB : w.heap.size ≤ g0 := by omega
  have hg2 : g0 < w2.heap.size := by have := hb2.size; omega
  have HAT := Lib.hid hat
  rw [← hg0]
  have HG0 := Lib.hid hg0
  clear hh hb2 hb0 hlt0 hat hg0
  have hs1 := ((hb3.setCell (p := ⟨g0, 0, none⟩) hgB (.string ⟨#[]⟩)).setCell (p := ⟨g0, 1, none⟩) hgB (.string ⟨#[]⟩)).setCell (p := ⟨g0, 2, none⟩) hgB (.bool false)
  by_cases h1 : i < 1
  · have HS : Hid (stg i = (⟨⟨#[]⟩, ⟨#[]⟩, false⟩, false)) := Lib.hid (by rw [stg, if_neg (by omega)])
    go_wp2
    refine bodyPost_ret (v := .tuple #[.agg #[.string ⟨#[]⟩, .string ⟨#[]⟩, .bool false], .bool false]) (by simp [results, Try.results10, go_sem, q0, q1, q2]) rfl ⟨?_, hs1⟩
    rw [HS.out]
  · by_cases h2 : 61 < i
    · have HS : Hid (stg i = (⟨⟨#[]⟩, ⟨#[]⟩, false⟩, false)) := Lib.hid (by rw [stg, if_neg (by omega)])
      go_wp2
      refine bodyPost_ret (v := .tuple #[.agg #[.string ⟨#[]⟩, .string ⟨#[]⟩, .bool false], .bool false]) (by simp [results, Try.results10, go_sem, q0, q1, q2]) rfl ⟨?_, hs1⟩
      rw [HS.out]
    · obtain ⟨j, rfl⟩ : ∃ v : Nat, i = (v : Int) := ⟨i.toNat, by omega⟩
      obtain ⟨I, hI⟩ : ∃ I, I = j - 1 := ⟨_, rfl⟩
      obtain ⟨P, hP⟩ : ∃ P, P = 2 * I := ⟨_, rfl⟩
      obtain ⟨Q, hQ⟩ : ∃ Q, Q = 2 * I + 1 := ⟨_, rfl⟩
      obtain ⟨c0, c1⟩ := tab_at HAT.out I (by omega)
      rw [← hP] at c0
      rw [← hQ] at c1
      obtain ⟨X, hX⟩ : ∃ X, X = nm I := ⟨_, rfl⟩
      obtain ⟨Y, hY⟩ : ∃ Y, Y = vl I := ⟨_, rfl⟩
      rw [← hX] at c0
      rw [← hY] at c1
      have e1 : 2 * (j : Int) - 2 = (P : Int) := by omega
      have e2 : 2 * (j : Int) - 1 = (Q : Int) := by omega
      have p1 : (P : Int) < 122 := by omega
      have p2 : (Q : Int) < 122 := by omega
      have p1' : P < 122 := by omega
      have p2' : Q < 122 := by omega
      have j1 : ¬ (j : Int) < 1 := by omega
      have j2 : ¬ (61 : Int) < (j : Int) := by omega
      have HS : Hid (stg (j : Int) = (⟨X, Y, false⟩, true)) := Lib.hid (by rw [stg, if_pos (by omega), Int.toNat_natCast, ← hI, hX, hY])
      have hs2 := below_drewN (((hb3.setCell (p := ⟨g0, 0, none⟩) hgB (.string X)).setCell (p := ⟨g0, 1, none⟩) hgB (.string Y)).setCell (p := ⟨g0, 2, none⟩) hgB (.bool false)) 1
      clear hs1 hI hP hQ hX hY h1 h2
      go_wp2
      go_region
      go_wp2
      refine bodyPost_ret (v := .tuple #[.agg #[.string X, .string Y, .bool false], .bool true]) (by simp [results, Try.results10, go_sem, q0, q1, q2]) rfl ⟨?_, hs2⟩
      rw [HS.out]
end Go.Proofs.Ytcamcfecmjoniaa
