/- The landed at: the field of an index. -/
import Derived.Test.YtiandidencnlcaaDoorLSGet
import Derived.Test.YtiandidencnlcaaDoorLDFind
import Derived.Test.YtiandidencnlcaaDoorUObj
namespace Go.Proofs.YtiandidencnlcaaDoor
open Go.RowKit

theorem ufield_low (L : List Fld) (n : Nat) (h : n ≤ 61) : ufield L (n : Int) = stg (n : Int) := by
  rw [ufield]
  by_cases h0 : 1 ≤ n
  · have e : stg (n : Int) = (⟨St.nm ((n : Int).toNat - 1), St.vl ((n : Int).toNat - 1), false⟩, true) := by rw [stg, if_pos (by omega)]
    rw [e]
    rfl
  · have hn : n = 0 := by omega
    subst hn
    rw [show stg ((0 : Nat) : Int) = (⟨⟨#[]⟩, ⟨#[]⟩, false⟩, false) from rfl]
    show getL L (((0 : Nat) : Int) - 61) = _
    rw [getL, if_neg (by omega)]
theorem ufield_high (L : List Fld) (n : Nat) (h : 61 < n) : ufield L (n : Int) = getL L ((n : Int) - 61) := by
  have e : (stg (n : Int)).2 = false := by rw [stg, if_neg (by omega)]
  rw [ufield, e]
  rfl
set_option maxRecDepth 100000 in
set_option maxHeartbeats 4000000 in
theorem uat_f (w : World) (hR : Rdy w) (S : Nat → Prop) (p t m n : Nat) (L : List Fld) (hc : w.cell? ⟨p, 0, none⟩ = some (.pointer (some ⟨t, 0, none⟩))) (hT : DT w S t m L) (hn : n ≤ 2147483647) :
    Calls Tryd.prog 60 #[.pointer (some ⟨p, 0, none⟩), .int .i64 (n : Int)] w (FPost w (ufield L (n : Int))) := by
  have hpl := World.block_lt_of_cell? w _ hc
  obtain ⟨g0, hg0⟩ : ∃ g, g = w.heap.size := ⟨_, rfl⟩
  obtain ⟨wa, hwa⟩ : ∃ wa, wa = w.alloc (.cells #[.string ⟨#[]⟩, .string ⟨#[]⟩, .bool false] 52) := ⟨_, rfl⟩
  have hb0 : Below w.heap.size w wa := by rw [hwa]; exact (Below.refl _ _).alloc (Nat.le_refl _) _
  have hh0 : wa.heap[g0]? = some (.cells #[.string ⟨#[]⟩, .string ⟨#[]⟩, .bool false] 52) := by rw [hwa, hg0]; exact heap_alloc_new w _
  have hlt0 : g0 < wa.heap.size := by rw [hwa, hg0]; simp
  have hgB : w.heap.size ≤ g0 := by omega
  have hTa : DT wa S t m L := hT.keep (S' := fun _ => False) (Keeps.of_below hb0) (fun _ _ h => h)
  have hRa := hR.below hb0
  have hca : wa.cell? ⟨p, 0, none⟩ = some (.pointer (some ⟨t, 0, none⟩)) := (hb0.cell (p := ⟨p, 0, none⟩) hpl).trans hc
  have HALL : Hid (Calls Tryd.prog 26 #[.pointer (some ⟨t, 0, none⟩), .int .i64 ((n : Int) - 61)] wa (FPost wa (getL L ((n : Int) - 61)))) := Lib.hid (dget_f wa S t m L ((n : Int) - 61) hRa hTa (by unfold Rng; omega))
  have HSTA : Hid (Calls Tryd.prog 74 #[.int .i64 (n : Int)] wa (StPost wa (stg (n : Int)))) := Lib.hid (sget_f (n : Int) wa hRa (by unfold Rng; omega))
  obtain ⟨F, hF⟩ : ∃ F, F = ufield L (n : Int) := ⟨_, rfl⟩
  rw [← hF]
  have HF := Lib.hid hF
  obtain ⟨⟨X, Y, Z⟩, B⟩ := F
  have HB0 := Lib.hid hb0
  have HH0 := Lib.hid hh0
  have HLT := Lib.hid hlt0
  clear hF hb0 hh0 hlt0 hT hTa hR hRa hc hpl
  by_cases h61 : n ≤ 61
  · have HS := HSTA.out
    rw [← ufield_low L n h61, ← HF.out, hwa] at HS
    replace HS := Lib.hid HS
    have d : ¬ (61 : Int) < (n : Int) := by omega
    clear hca HALL HSTA h61 HF
    go_enter Tryd.func60, Tryd.ntmps60
    go_wp2_with fail
    with_reducible refine (HS.out).mono ?_
    rw [← hwa]
    rintro e w1 ⟨rfl, hb1⟩
    simp only []
    rw [← hg0]
    have hb2 := HB0.out.trans (hb1.mono HB0.out.size)
    have hh2 := (hb1.block g0 HLT.out).trans HH0.out
    have f0 : w1.frozen? ⟨g0, 0, none⟩ = false := frozen_of_row w1 g0 0 _ 52 hh2
    have f1 : w1.frozen? ⟨g0, 1, none⟩ = false := frozen_of_row w1 g0 1 _ 52 hh2
    have f2 : w1.frozen? ⟨g0, 2, none⟩ = false := frozen_of_row w1 g0 2 _ 52 hh2
    have q0 : w1.cell? ⟨g0, 0, none⟩ = some (.string ⟨#[]⟩) := cell_of_row w1 g0 0 _ 52 _ hh2
    have q1 : w1.cell? ⟨g0, 1, none⟩ = some (.string ⟨#[]⟩) := cell_of_row w1 g0 1 _ 52 _ hh2
    have q2 : w1.cell? ⟨g0, 2, none⟩ = some (.bool false) := cell_of_row w1 g0 2 _ 52 _ hh2
    have hs1 := ((hb2.setCell (p := ⟨g0, 0, none⟩) hgB (.string X)).setCell (p := ⟨g0, 1, none⟩) hgB (.string Y)).setCell (p := ⟨g0, 2, none⟩) hgB (.bool Z)
    clear hh2 hwa hg0 hb2 hb1 HS
    go_wp2
    refine bodyPost_ret (v := .tuple #[.agg #[.string X, .string Y, .bool Z], .bool B]) (by simp [results, Tryd.results60, go_sem, q0, q1, q2]) rfl ⟨rfl, hs1⟩
  · have HS := HALL.out
    rw [← ufield_high L n (by omega), ← HF.out, hwa] at HS
    replace HS := Lib.hid HS
    have d : (61 : Int) < (n : Int) := by omega
    rw [hwa] at hca
    clear HALL HSTA h61 HF
    go_enter Tryd.func60, Tryd.ntmps60
    go_wp2_with fail
    with_reducible refine (HS.out).mono ?_
    rw [← hwa]
    rintro e w1 ⟨rfl, hb1⟩
    simp only []
    rw [← hg0]
    have hb2 := HB0.out.trans (hb1.mono HB0.out.size)
    have hh2 := (hb1.block g0 HLT.out).trans HH0.out
    have f0 : w1.frozen? ⟨g0, 0, none⟩ = false := frozen_of_row w1 g0 0 _ 52 hh2
    have f1 : w1.frozen? ⟨g0, 1, none⟩ = false := frozen_of_row w1 g0 1 _ 52 hh2
    have f2 : w1.frozen? ⟨g0, 2, none⟩ = false := frozen_of_row w1 g0 2 _ 52 hh2
    have q0 : w1.cell? ⟨g0, 0, none⟩ = some (.string ⟨#[]⟩) := cell_of_row w1 g0 0 _ 52 _ hh2
    have q1 : w1.cell? ⟨g0, 1, none⟩ = some (.string ⟨#[]⟩) := cell_of_row w1 g0 1 _ 52 _ hh2
    have q2 : w1.cell? ⟨g0, 2, none⟩ = some (.bool false) := cell_of_row w1 g0 2 _ 52 _ hh2
    have hs1 := ((hb2.setCell (p := ⟨g0, 0, none⟩) hgB (.string X)).setCell (p := ⟨g0, 1, none⟩) hgB (.string Y)).setCell (p := ⟨g0, 2, none⟩) hgB (.bool Z)
    clear hh2 hwa hg0 hb2 hb1 HS hca
    go_wp2
    refine bodyPost_ret (v := .tuple #[.agg #[.string X, .string Y, .bool Z], .bool B]) (by simp [results, Tryd.results60, go_sem, q0, q1, q2]) rfl ⟨rfl, hs1⟩
end Go.Proofs.YtiandidencnlcaaDoor
