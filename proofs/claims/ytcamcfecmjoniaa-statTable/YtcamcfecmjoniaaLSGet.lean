/- The landed Get. -/
import Derived.Test.YtcamcfecmjoniaaLSTab
import Derived.Test.YtcamcfecmjoniaaSGet
import Derived.Test.YtcamcfecmjoniaaLRdy
namespace Go.Proofs.Ytcamcfecmjoniaa
open Go.RowKit St
set_option maxRecDepth 100000 in
set_option maxHeartbeats 4000000 in
theorem get_s (i : Int) (w : World) (hi : -9223372036854775808 ≤ i ∧ i ≤ 9223372036854775807) : Calls Try.prog 9 #[.int .i64 i] w (StPost w (stg i)) := by
  have hb0 : Below w.heap.size w (w.alloc (.cells #[.string ⟨#[]⟩, .string ⟨#[]⟩, .bool false] 26)) := (Below.refl _ _).alloc (Nat.le_refl _) _
  obtain ⟨g0, hg0⟩ : ∃ g, g = w.heap.size := ⟨_, rfl⟩
  have hlt0 : g0 < (w.alloc (.cells #[.string ⟨#[]⟩, .string ⟨#[]⟩, .bool false] 26)).heap.size := by rw [hg0]; simp
  by_cases h12 : i < 1 ∨ 61 < i
  · have HS : Hid (stg i = (⟨⟨#[]⟩, ⟨#[]⟩, false⟩, false)) := Lib.hid (by rw [stg, if_neg (by omega)])
    have HB := Lib.hid hb0
    clear hb0 hlt0 hg0
    rcases h12 with h1 | h2
    · go_enter Try.func9, Try.ntmps9
      go_wp2
      refine bodyPost_ret (v := .tuple #[.agg #[.string ⟨#[]⟩, .string ⟨#[]⟩, .bool false], .bool false]) (by simp [results, Try.results9, go_sem]) rfl ⟨?_, HB.out⟩
      rw [HS.out]
    · have h1 : ¬ i < 1 := by omega
      go_enter Try.func9, Try.ntmps9
      go_wp2
      refine bodyPost_ret (v := .tuple #[.agg #[.string ⟨#[]⟩, .string ⟨#[]⟩, .bool false], .bool false]) (by simp [results, Try.results9, go_sem]) rfl ⟨?_, HB.out⟩
      rw [HS.out]
  · obtain ⟨j, rfl⟩ : ∃ v : Nat, i = (v : Int) := ⟨i.toNat, by omega⟩
    have j1 : ¬ (j : Int) < 1 := by omega
    have j2 : ¬ (61 : Int) < (j : Int) := by omega
    obtain ⟨I, hI⟩ : ∃ I, I = j - 1 := ⟨_, rfl⟩
    have e1 : (j : Int) - 1 = (I : Int) := by omega
    have HS : Hid (stg (j : Int) = (⟨nm I, vl I, false⟩, true)) := Lib.hid (by rw [stg, if_pos (by omega), Int.toNat_natCast, ← hI])
    have hI61 : I < 61 := by omega
    have HI := Lib.hid hI
    clear hI h12
    go_enter Try.func9, Try.ntmps9
    go_wp2_with fail
    with_reducible refine (table_any _).mono ?_
    rintro e w2 ⟨T, rfl, hT, hb2⟩
    have hix := tab_index I hI61 w2
    rw [← hT] at hix
    obtain ⟨X, hX⟩ : ∃ X, X = nm I := ⟨_, rfl⟩
    obtain ⟨Y, hY⟩ : ∃ Y, Y = vl I := ⟨_, rfl⟩
    rw [← hX, ← hY] at hix HS
    have hh : w2.heap[g0]? = some (.cells #[.string ⟨#[]⟩, .string ⟨#[]⟩, .bool false] 26) := by
      rw [hb2.block g0 hlt0, hg0]
      exact heap_alloc_new w _
    have q0 : w2.cell? ⟨g0, 0, none⟩ = some (.string ⟨#[]⟩) := cell_of_row _ g0 0 _ 26 _ hh
    have q1 : w2.cell? ⟨g0, 1, none⟩ = some (.string ⟨#[]⟩) := cell_of_row _ g0 1 _ 26 _ hh
    have q2 : w2.cell? ⟨g0, 2, none⟩ = some (.bool false) := cell_of_row _ g0 2 _ 26 _ hh
    have f0 : w2.frozen? ⟨g0, 0, none⟩ = false := frozen_of_row w2 g0 0 _ 26 hh
    have f1 : w2.frozen? ⟨g0, 1, none⟩ = false := frozen_of_row w2 g0 1 _ 26 hh
    have f2 : w2.frozen? ⟨g0, 2, none⟩ = false := frozen_of_row w2 g0 2 _ 26 hh
    have hb3 := hb0.trans (hb2.mono hb0.size)
    have hgB : w.heap.size ≤ g0 := by omega
    have hg2 : g0 < w2.heap.size := by have := hb2.size; omega
    rw [← hg0]
    have HG0 := Lib.hid hg0
    have hs2 := ((hb3.setCell (p := ⟨g0, 0, none⟩) hgB (.string X)).setCell (p := ⟨g0, 1, none⟩) hgB (.string Y)).setCell (p := ⟨g0, 2, none⟩) hgB (.bool false)
    clear hh hb2 hb0 hlt0 hg0 hT hX hY hb3
    go_wp2
    refine bodyPost_ret (v := .tuple #[.agg #[.string X, .string Y, .bool false], .bool true]) (by simp [results, Try.results9, go_sem, q0, q1, q2]) rfl ⟨?_, hs2⟩
    rw [HS.out]
theorem sget_f (i : Int) (w : World) (_ : Rdy w) (hi : Rng i) : Calls Try.prog 9 #[.int .i64 i] w (StPost w (stg i)) := get_s i w hi
end Go.Proofs.Ytcamcfecmjoniaa
