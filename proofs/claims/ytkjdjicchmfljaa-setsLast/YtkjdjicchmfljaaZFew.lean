/- first of stage 13. -/
import Derived.Test.YtkjdjicchmfljaaZFace
import Derived.Test.YtkjdjicchmfljaaZKeep
import Derived.Deep.RegionHeld3
import Derived.Deep.DeepCutAuto
import Derived.BigQuiet
namespace Go.Proofs.Ytkjdjicchmfljaa
open Go.RowKit Zs

/-- First, Apply of nothing, said outright. -/
theorem zfirst_is (w : World) : Calls Try.prog 10 #[] w fun e w' => e = .returned (.agg #[.int .i64 4096, .int .i64 1, .int .i64 2147483647, .int .i64 65535, .int .i64 16384, .int .i64 2147483647]) ∧ Below w.heap.size w w' := zfirst_f w
theorem zapply_nil (w : World) : Calls Try.prog 8 #[.agg #[.int .i64 4096, .int .i64 1, .int .i64 2147483647, .int .i64 65535, .int .i64 16384, .int .i64 2147483647], .slice none 0 0] w fun e w' => e = .returned (.tuple #[.agg #[.int .i64 4096, .int .i64 1, .int .i64 2147483647, .int .i64 65535, .int .i64 16384, .int .i64 2147483647], .agg #[.bool false, .bool false, .int .i64 0]]) ∧ Below w.heap.size w w' := zapply_f firstSt none [] 0 0 w (atS_nil _ _ _) rfl (by omega)
set_option maxRecDepth 100000 in
set_option maxHeartbeats 4000000 in
theorem first13_any (w : World) : Calls Try.prog 7 #[] w (YesZ w) := by
  have HF1 := Lib.hid fun (W : World) => zfirst_is W
  have HAP := Lib.hid fun (W : World) => zapply_nil W
  go_enter Try.func7, Try.ntmps7
  go_wp2_with fail
  with_reducible refine (HF1.out w).mono ?_
  rintro e w1 ⟨rfl, hb1⟩
  have HB1 := Lib.hid hb1
  clear hb1
  go_wp2_with fail
  with_reducible refine (HAP.out w1).mono ?_
  rintro e w2 ⟨rfl, hb2⟩
  have HB2 := Lib.hid (HB1.out.trans (hb2.mono HB1.out.size))
  obtain ⟨hk, hb3⟩ := kz_of w2 firstSt noFlt
  obtain ⟨w3, hw3⟩ : ∃ x, x = keptZ w2 firstSt noFlt := ⟨_, rfl⟩
  rw [← hw3] at hk hb3
  have hw3' : w3 = (w2.alloc (.cells #[.int .i64 4096, .int .i64 1, .int .i64 2147483647, .int .i64 65535, .int .i64 16384, .int .i64 2147483647] 23)).alloc (.cells #[.bool false, .bool false, .int .i64 0] 27) := hw3
  have HB3 := Lib.hid (HB2.out.trans (hb3.mono HB2.out.size))
  have HW := Lib.hid hw3'
  obtain ⟨g, hg⟩ : ∃ g, g = w2.heap.size := ⟨_, rfl⟩
  rw [← hg] at hk
  have HG := Lib.hid hg
  have HKK : Hid (∀ w', Below w3.heap.size w3 w' → w'.cell? ⟨g, 0, none⟩ = some (.int .i64 4096) ∧ w'.cell? ⟨g, 1, none⟩ = some (.int .i64 1) ∧ w'.cell? ⟨g, 2, none⟩ = some (.int .i64 2147483647) ∧ w'.cell? ⟨g, 3, none⟩ = some (.int .i64 65535) ∧ w'.cell? ⟨g, 4, none⟩ = some (.int .i64 16384) ∧ w'.cell? ⟨g, 5, none⟩ = some (.int .i64 2147483647) ∧ w'.cell? ⟨g + 1, 0, none⟩ = some (.bool false)) := Lib.hid (fun w' h => by
    have hk' := hk.up h
    obtain ⟨c0, c1, c2, c3, c4, c5⟩ := hk'.sets
    exact ⟨c0, c1, c2, c3, c4, c5, hk'.flt.1⟩)
  clear hb2 hb3 hw3 hw3' hg hk
  go_upto_region 2 with fail
  rw [← HW.out, ← HG.out]
  go_wp2_with fail
  refine wp_region_held_drew (S := fun w' => w'.cell? ⟨g, 0, none⟩ = some (.int .i64 4096) ∧ w'.cell? ⟨g, 1, none⟩ = some (.int .i64 1) ∧ w'.cell? ⟨g, 2, none⟩ = some (.int .i64 2147483647) ∧ w'.cell? ⟨g, 3, none⟩ = some (.int .i64 65535) ∧ w'.cell? ⟨g, 4, none⟩ = some (.int .i64 16384) ∧ w'.cell? ⟨g, 5, none⟩ = some (.int .i64 2147483647) ∧ w'.cell? ⟨g + 1, 0, none⟩ = some (.bool false)) (by kernel_rfl) (HKK.out _ (Below.refl _ _).drew) (fun hHeld => ?_)
  refine wpAnyH_take (i := 0) (v := ?_) rfl (by kernel_rfl) (by kernel_rfl) (by kernel_rfl) (fun _ _ _ h => h) (Or.inl ⟨by rfl, ?_⟩) hHeld ?_
  rotate_left
  · intro w hSw
    obtain ⟨c0, c1, c2, c3, c4, c5, d0⟩ := hSw
    try dsimp only at c0 c1 c2 c3 c4 c5 d0
    go_simp
    try with_reducible rfl
  change wpAnyH _ _ _ _ _ _ _ (Act.put _ (some 8) _) _
  simp only [Act.put, List.setIfInBounds_toArray, List.set_cons_zero, List.set_cons_succ]
  refine wpAnyH_take (i := 1) (v := ?_) rfl (by kernel_rfl) (by kernel_rfl) (by kernel_rfl) (fun _ _ _ h => h) (Or.inl ⟨by rfl, ?_⟩) hHeld ?_
  rotate_left
  · intro w hSw
    obtain ⟨c0, c1, c2, c3, c4, c5, d0⟩ := hSw
    try dsimp only at c0 c1 c2 c3 c4 c5 d0
    go_simp
    try with_reducible rfl
  change wpAnyH _ _ _ _ _ _ _ (Act.put _ (some 9) _) _
  simp only [Act.put, List.setIfInBounds_toArray, List.set_cons_zero, List.set_cons_succ]
  refine wpAnyH_take (i := 2) (v := .bool true) rfl (by kernel_rfl) (by kernel_rfl) (by kernel_rfl) (fun _ _ _ h => h) (Or.inl ⟨by rfl, ?_⟩) hHeld ?_
  · intro w hSw
    obtain ⟨c0, c1, c2, c3, c4, c5, d0⟩ := hSw
    try dsimp only at c0 c1 c2 c3 c4 c5 d0
    go_simp
    try simp
  change wpAnyH _ _ _ _ _ _ _ (Act.put _ (some 10) _) _
  simp only [Act.put, List.setIfInBounds_toArray, List.set_cons_zero, List.set_cons_succ]
  refine wpAnyH_take (i := 3) (v := ?_) rfl (by kernel_rfl) (by kernel_rfl) (by kernel_rfl) (fun _ _ _ h => h) (Or.inl ⟨by rfl, ?_⟩) hHeld ?_
  rotate_left
  · intro w hSw
    obtain ⟨c0, c1, c2, c3, c4, c5, d0⟩ := hSw
    try dsimp only at c0 c1 c2 c3 c4 c5 d0
    go_simp
    try with_reducible rfl
  change wpAnyH _ _ _ _ _ _ _ (Act.put _ (some 11) _) _
  simp only [Act.put, List.setIfInBounds_toArray, List.set_cons_zero, List.set_cons_succ]
  refine wpAnyH_take (i := 4) (v := ?_) rfl (by kernel_rfl) (by kernel_rfl) (by kernel_rfl) (fun _ _ _ h => h) (Or.inl ⟨by rfl, ?_⟩) hHeld ?_
  rotate_left
  · intro w hSw
    obtain ⟨c0, c1, c2, c3, c4, c5, d0⟩ := hSw
    try dsimp only at c0 c1 c2 c3 c4 c5 d0
    go_simp
    try with_reducible rfl
  change wpAnyH _ _ _ _ _ _ _ (Act.put _ (some 12) _) _
  simp only [Act.put, List.setIfInBounds_toArray, List.set_cons_zero, List.set_cons_succ]
  refine wpAnyH_ready (rs := [5]) (by kernel_rfl) (by simp) ?_
  refine AllReadyH.cons rfl (fun K hK => ?_) AllReadyH.nil
  go_simp
  with_reducible refine (HF1.out _).mono ?_
  rintro e w4 ⟨rfl, hb4⟩
  have hb4' : Below w3.heap.size w3 w4 := ((Below.refl w3.heap.size w3).drew).trans hb4
  refine hK.out _ _ (HKK.out _ hb4') (fun hHeld => ?_)
  clear hK K
  refine wpAnyH_take (i := 6) (v := .bool true) rfl (by kernel_rfl) (by kernel_rfl) (by kernel_rfl) (fun _ _ _ h => h) (Or.inl ⟨by rfl, ?_⟩) hHeld ?_
  · intro w hSw
    obtain ⟨c0, c1, c2, c3, c4, c5, d0⟩ := hSw
    try dsimp only at c0 c1 c2 c3 c4 c5 d0
    go_simp
    try simp
  change wpAnyH _ _ _ _ _ _ _ (Act.put _ (some 14) _) _
  simp only [Act.put, List.setIfInBounds_toArray, List.set_cons_zero, List.set_cons_succ]
  refine wpAnyH_take (i := 7) (v := ?_) rfl (by kernel_rfl) (by kernel_rfl) (by kernel_rfl) (fun _ _ _ h => h) (Or.inl ⟨by rfl, ?_⟩) hHeld ?_
  rotate_left
  · intro w hSw
    obtain ⟨c0, c1, c2, c3, c4, c5, d0⟩ := hSw
    try dsimp only at c0 c1 c2 c3 c4 c5 d0
    go_simp
    try with_reducible rfl
  change wpAnyH _ _ _ _ _ _ _ (Act.put _ (some 15) _) _
  simp only [Act.put, List.setIfInBounds_toArray, List.set_cons_zero, List.set_cons_succ]
  refine wpAnyH_take (i := 8) (v := ?_) rfl (by kernel_rfl) (by kernel_rfl) (by kernel_rfl) (fun _ _ _ h => h) (Or.inl ⟨by rfl, ?_⟩) hHeld ?_
  rotate_left
  · intro w hSw
    obtain ⟨c0, c1, c2, c3, c4, c5, d0⟩ := hSw
    try dsimp only at c0 c1 c2 c3 c4 c5 d0
    go_simp
    try with_reducible rfl
  change wpAnyH _ _ _ _ _ _ _ (Act.put _ (some 16) _) _
  simp only [Act.put, List.setIfInBounds_toArray, List.set_cons_zero, List.set_cons_succ]
  refine wpAnyH_take (i := 9) (v := ?_) rfl (by kernel_rfl) (by kernel_rfl) (by kernel_rfl) (fun _ _ _ h => h) (Or.inl ⟨by rfl, ?_⟩) hHeld ?_
  rotate_left
  · intro w hSw
    obtain ⟨c0, c1, c2, c3, c4, c5, d0⟩ := hSw
    try dsimp only at c0 c1 c2 c3 c4 c5 d0
    go_simp
    try with_reducible rfl
  change wpAnyH _ _ _ _ _ _ _ (Act.put _ (some 17) _) _
  simp only [Act.put, List.setIfInBounds_toArray, List.set_cons_zero, List.set_cons_succ]
  refine wpAnyH_take (i := 10) (v := ?_) rfl (by kernel_rfl) (by kernel_rfl) (by kernel_rfl) (fun _ _ _ h => h) (Or.inl ⟨by rfl, ?_⟩) hHeld ?_
  rotate_left
  · intro w hSw
    obtain ⟨c0, c1, c2, c3, c4, c5, d0⟩ := hSw
    try dsimp only at c0 c1 c2 c3 c4 c5 d0
    go_simp
    try with_reducible rfl
  change wpAnyH _ _ _ _ _ _ _ (Act.put _ (some 18) _) _
  simp only [Act.put, List.setIfInBounds_toArray, List.set_cons_zero, List.set_cons_succ]
  refine wpAnyH_take (i := 11) (v := .bool true) rfl (by kernel_rfl) (by kernel_rfl) (by kernel_rfl) (fun _ _ _ h => h) (Or.inl ⟨by rfl, ?_⟩) hHeld ?_
  · intro w hSw
    obtain ⟨c0, c1, c2, c3, c4, c5, d0⟩ := hSw
    try dsimp only at c0 c1 c2 c3 c4 c5 d0
    go_simp
    try simp
  change wpAnyH _ _ _ _ _ _ _ (Act.put _ (some 19) _) _
  simp only [Act.put, List.setIfInBounds_toArray, List.set_cons_zero, List.set_cons_succ]
  refine wpAnyH_take (i := 12) (v := ?_) rfl (by kernel_rfl) (by kernel_rfl) (by kernel_rfl) (fun _ _ _ h => h) (Or.inl ⟨by rfl, ?_⟩) hHeld ?_
  rotate_left
  · intro w hSw
    obtain ⟨c0, c1, c2, c3, c4, c5, d0⟩ := hSw
    try dsimp only at c0 c1 c2 c3 c4 c5 d0
    go_simp
    try with_reducible rfl
  change wpAnyH _ _ _ _ _ _ _ (Act.put _ (some 20) _) _
  simp only [Act.put, List.setIfInBounds_toArray, List.set_cons_zero, List.set_cons_succ]
  refine wpAnyH_take (i := 13) (v := ?_) rfl (by kernel_rfl) (by kernel_rfl) (by kernel_rfl) (fun _ _ _ h => h) (Or.inl ⟨by rfl, ?_⟩) hHeld ?_
  rotate_left
  · intro w hSw
    obtain ⟨c0, c1, c2, c3, c4, c5, d0⟩ := hSw
    try dsimp only at c0 c1 c2 c3 c4 c5 d0
    go_simp
    try with_reducible rfl
  change wpAnyH _ _ _ _ _ _ _ (Act.put _ (some 21) _) _
  simp only [Act.put, List.setIfInBounds_toArray, List.set_cons_zero, List.set_cons_succ]
  refine wpAnyH_take (i := 14) (v := ?_) rfl (by kernel_rfl) (by kernel_rfl) (by kernel_rfl) (fun _ _ _ h => h) (Or.inl ⟨by rfl, ?_⟩) hHeld ?_
  rotate_left
  · intro w hSw
    obtain ⟨c0, c1, c2, c3, c4, c5, d0⟩ := hSw
    try dsimp only at c0 c1 c2 c3 c4 c5 d0
    go_simp
    try with_reducible rfl
  change wpAnyH _ _ _ _ _ _ _ (Act.put _ (some 22) _) _
  simp only [Act.put, List.setIfInBounds_toArray, List.set_cons_zero, List.set_cons_succ]
  refine wpAnyH_take (i := 15) (v := ?_) rfl (by kernel_rfl) (by kernel_rfl) (by kernel_rfl) (fun _ _ _ h => h) (Or.inl ⟨by rfl, ?_⟩) hHeld ?_
  rotate_left
  · intro w hSw
    obtain ⟨c0, c1, c2, c3, c4, c5, d0⟩ := hSw
    try dsimp only at c0 c1 c2 c3 c4 c5 d0
    go_simp
    try with_reducible rfl
  change wpAnyH _ _ _ _ _ _ _ (Act.put _ (some 23) _) _
  simp only [Act.put, List.setIfInBounds_toArray, List.set_cons_zero, List.set_cons_succ]
  refine wpAnyH_take (i := 16) (v := .bool true) rfl (by kernel_rfl) (by kernel_rfl) (by kernel_rfl) (fun _ _ _ h => h) (Or.inl ⟨by rfl, ?_⟩) hHeld ?_
  · intro w hSw
    obtain ⟨c0, c1, c2, c3, c4, c5, d0⟩ := hSw
    try dsimp only at c0 c1 c2 c3 c4 c5 d0
    go_simp
    try simp
  change wpAnyH _ _ _ _ _ _ _ (Act.put _ (some 24) _) _
  simp only [Act.put, List.setIfInBounds_toArray, List.set_cons_zero, List.set_cons_succ]
  refine wpAnyH_take (i := 17) (v := ?_) rfl (by kernel_rfl) (by kernel_rfl) (by kernel_rfl) (fun _ _ _ h => h) (Or.inl ⟨by rfl, ?_⟩) hHeld ?_
  rotate_left
  · intro w hSw
    obtain ⟨c0, c1, c2, c3, c4, c5, d0⟩ := hSw
    try dsimp only at c0 c1 c2 c3 c4 c5 d0
    go_simp
    try with_reducible rfl
  change wpAnyH _ _ _ _ _ _ _ (Act.put _ (some 25) _) _
  simp only [Act.put, List.setIfInBounds_toArray, List.set_cons_zero, List.set_cons_succ]
  refine wpAnyH_take (i := 18) (v := ?_) rfl (by kernel_rfl) (by kernel_rfl) (by kernel_rfl) (fun _ _ _ h => h) (Or.inl ⟨by rfl, ?_⟩) hHeld ?_
  rotate_left
  · intro w hSw
    obtain ⟨c0, c1, c2, c3, c4, c5, d0⟩ := hSw
    try dsimp only at c0 c1 c2 c3 c4 c5 d0
    go_simp
    try with_reducible rfl
  change wpAnyH _ _ _ _ _ _ _ (Act.put _ (some 0) _) _
  simp only [Act.put, List.setIfInBounds_toArray]
  refine wpAnyH_done (by kernel_rfl) ?_ _
  have HB4 := Lib.hid (HB3.out.trans (hb4'.mono HB3.out.size))
  clear hb4 hb4'
  go_wp2
  go_ret
  exact ⟨rfl, HB4.out⟩
end Go.Proofs.Ytkjdjicchmfljaa
