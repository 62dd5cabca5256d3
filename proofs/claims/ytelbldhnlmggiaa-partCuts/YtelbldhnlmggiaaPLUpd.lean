/- The landed update. -/
import Derived.Test.YtelbldhnlmggiaaPLNum
import Derived.Test.YtelbldhnlmggiaaPLSmall
import Derived.Test.YtelbldhnlmggiaaLJump
import Derived.Test.YtelbldhnlmggiaaPtSteps
import Derived.Test.YtelbldhnlmggiaaFVal
import Derived.Deep.DeepCutAuto
import Derived.Deep.RegionHeld3
namespace Go.Proofs.Ytelbldhnlmggiaa
open Go.RowKit Fr

theorem and31r (a : Nat) (ha : a < 4294967296) : bits .and .i64 (a : Int) 2147483647 = ((a % 2147483648 : Nat) : Int) := by
  have := i64_and_nat a 2147483647 (by omega) (by omega)
  rw [show (2147483647 : Nat) = 2 ^ 31 - 1 by decide, Nat.and_two_pow_sub_one_eq_mod] at this
  exact this
set_option maxRecDepth 100000 in
set_option maxHeartbeats 4000000 in
theorem pupd_a (F S : Int) (l : List Nat) (A : Option Addr) (n c : Nat) (w : World) (hm : n ≠ 4) :
    Calls Try.prog 21 #[.agg #[.int .i64 8, .int .i64 F, .int .i64 S, .slice A n c]] w (PtPost w (noPrt, ⟨true, true, 6⟩)) := by
  have k3 : ((n : Int) == 4) = false := by rw [beq_eq_false_iff_ne]; omega
  have k4 : ((n : Int) != 4) = true := by rw [bne_iff_ne]; omega
  clear hm
  obtain ⟨T0, hbl, hsz⟩ := four_of w (⟨8, F, S, l⟩ : Frm) A n c
  obtain ⟨g, hg⟩ : ∃ g, g = w.heap.size := ⟨_, rfl⟩
  obtain ⟨w1, hw1⟩ : ∃ w1, w1 = w4of w (⟨8, F, S, l⟩ : Frm) A n c := ⟨_, rfl⟩
  rw [← hw1, ← hg] at T0
  rw [← hw1] at hbl hsz
  have hw1' : w1 = ((((w.alloc (.cells #[.int .i64 8, .int .i64 F, .int .i64 S, .slice A n c] 34)).alloc (.cells #[.slice none 0 0, .int .i64 0, .int .i64 0, .int .i64 0, .int .i64 0, .slice none 0 0, .bool false, .bool false, .bool false] 28)).alloc (.cells #[.bool false, .bool false, .int .i64 0] 30)).alloc (.cells #[.slice none 0 0, .int .i64 0, .int .i64 0, .int .i64 0, .int .i64 0, .slice none 0 0, .bool false, .bool false, .bool false] 28)) := hw1
  obtain ⟨x0, x1, x2, x3⟩ := three_frm T0.1
  simp only [] at x0 x1 x2 x3
  have HT := Lib.hid T0
  have HW := Lib.hid hw1'
  have HG := Lib.hid hg
  have HBL := Lib.hid hbl
  have HSZ : Hid (w1.heap.size = g + 1 + 1 + 1 + 1) := Lib.hid (by rw [hsz, hg])
  clear T0 hw1' hw1 hg hbl hsz
  go_enter Try.func21, Try.ntmps21
  go_wp2
  refine wp_scope_fuel 4 ?_
  go_upto_region 2 with fail
  rw [← HW.out, ← HG.out]
  go_wp2
  go_step3
  refine JF.go (k := 3) rfl ?_
  go_wp2_with fail
  with_reducible refine (pfault_any 6 w1).mono ?_
  rintro e w9 ⟨rfl, hb9⟩
  have T9 := HT.out.up hb9
  have r0 : w9.cell? ⟨g + 1, 0, none⟩ = some (.slice none 0 0) := cell_of_row _ (g + 1) 0 _ 28 _ T9.1.2.1
  have r1 : w9.cell? ⟨g + 1, 1, none⟩ = some (.int .i64 0) := cell_of_row _ (g + 1) 1 _ 28 _ T9.1.2.1
  have r2 : w9.cell? ⟨g + 1, 2, none⟩ = some (.int .i64 0) := cell_of_row _ (g + 1) 2 _ 28 _ T9.1.2.1
  have r3 : w9.cell? ⟨g + 1, 3, none⟩ = some (.int .i64 0) := cell_of_row _ (g + 1) 3 _ 28 _ T9.1.2.1
  have r4 : w9.cell? ⟨g + 1, 4, none⟩ = some (.int .i64 0) := cell_of_row _ (g + 1) 4 _ 28 _ T9.1.2.1
  have r5 : w9.cell? ⟨g + 1, 5, none⟩ = some (.slice none 0 0) := cell_of_row _ (g + 1) 5 _ 28 _ T9.1.2.1
  have r6 : w9.cell? ⟨g + 1, 6, none⟩ = some (.bool false) := cell_of_row _ (g + 1) 6 _ 28 _ T9.1.2.1
  have r7 : w9.cell? ⟨g + 1, 7, none⟩ = some (.bool false) := cell_of_row _ (g + 1) 7 _ 28 _ T9.1.2.1
  have r8 : w9.cell? ⟨g + 1, 8, none⟩ = some (.bool false) := cell_of_row _ (g + 1) 8 _ 28 _ T9.1.2.1
  have t0 : w9.cell? ⟨g + 1 + 1, 0, none⟩ = some (.bool false) := cell_of_row _ (g + 1 + 1) 0 _ 30 _ T9.1.2.2
  have t1 : w9.cell? ⟨g + 1 + 1, 1, none⟩ = some (.bool false) := cell_of_row _ (g + 1 + 1) 1 _ 30 _ T9.1.2.2
  have t2 : w9.cell? ⟨g + 1 + 1, 2, none⟩ = some (.int .i64 0) := cell_of_row _ (g + 1 + 1) 2 _ 30 _ T9.1.2.2
  obtain ⟨f0, f1, f2, f3, f4, f5, f6, f7, f8, u0, u1, u2⟩ := three_froz T9.1
  have HN : Hid (PtPost w (noPrt, ⟨true, true, 6⟩) (.returned (.tuple #[.agg #[.slice none 0 0, .int .i64 0, .int .i64 0, .int .i64 0, .int .i64 0, .slice none 0 0, .bool false, .bool false, .bool false], .agg #[.bool true, .bool true, .int .i64 6]])) (stores w9 g (.slice none 0 0) (.int .i64 0) (.int .i64 0) (.int .i64 0) (.int .i64 0) (.slice none 0 0) (.bool false) (.bool false) (.bool false) (.bool true) (.bool true) (.int .i64 6))) := Lib.hid (rd_bare HG.out (HBL.out.trans (hb9.mono HBL.out.size)) rfl rfl _ _ _ _ _ _ _ _ _ _ _ _)
  clear T9 hb9
  go_wp2
  simp only [jumpsTo]
  refine bodyPost_ret (v := .tuple #[.agg #[.slice none 0 0, .int .i64 0, .int .i64 0, .int .i64 0, .int .i64 0, .slice none 0 0, .bool false, .bool false, .bool false], .agg #[.bool true, .bool true, .int .i64 6]]) (by simp [results, Try.results21, go_sem, r0, r1, r2, r3, r4, r5, r6, r7, r8, t0, t1, t2]) rfl HN.out
set_option maxRecDepth 100000 in
set_option maxHeartbeats 4000000 in
theorem pupd_b (F S : Int) (l : List Nat) (A : Option Addr) (n c : Nat) (w : World) (hs : S = 0) (hm : n = 4) (h0 : val l % 2147483648 = 0) (hA : At .u8 w w.heap.size A l) (hb : ∀ x ∈ l, x < 256) (hl : l.length = n) :
    Calls Try.prog 21 #[.agg #[.int .i64 8, .int .i64 F, .int .i64 S, .slice A n c]] w (PtPost w (noPrt, ⟨true, true, 1⟩)) := by
  obtain ⟨V, hV⟩ : ∃ V, V = val l := ⟨_, rfl⟩
  have hVb : V < 4294967296 := by
    have := val_lt l hb
    rw [hl, hm] at this
    rw [hV]
    exact this
  have HV : Hid (∀ W, Below w.heap.size w W → Calls Try.prog 29 #[.slice A n c] W fun e w' => e = .returned (.int .i64 (V : Int)) ∧ Below W.heap.size W w') := Lib.hid (fun W hb' => by
    rw [hV]
    refine (pnumber_any A l n c W (hA.up hb') hb hl (by omega)).mono ?_
    rintro e w' ⟨rfl, k, rfl⟩
    rw [List.take_of_length_le (by omega)]
    exact ⟨rfl, below_drewN (Below.refl _ _) _⟩)
  have eT : bits .and .i64 (V : Int) 2147483647 = 0 := by rw [and31r V hVb, hV, h0]; rfl
  clear h0
  clear hA hb hl hV hVb
  have k1 : (S == 0) = true := by rw [hs]; rfl
  have k2 : (S != 0) = false := by rw [hs]; rfl
  clear hs
  have k3 : ((n : Int) == 4) = true := by rw [hm]; rfl
  have k4 : ((n : Int) != 4) = false := by rw [hm]; rfl
  clear hm
  obtain ⟨T0, hbl, hsz⟩ := four_of w (⟨8, F, S, l⟩ : Frm) A n c
  obtain ⟨g, hg⟩ : ∃ g, g = w.heap.size := ⟨_, rfl⟩
  obtain ⟨w1, hw1⟩ : ∃ w1, w1 = w4of w (⟨8, F, S, l⟩ : Frm) A n c := ⟨_, rfl⟩
  rw [← hw1, ← hg] at T0
  rw [← hw1] at hbl hsz
  have hw1' : w1 = ((((w.alloc (.cells #[.int .i64 8, .int .i64 F, .int .i64 S, .slice A n c] 34)).alloc (.cells #[.slice none 0 0, .int .i64 0, .int .i64 0, .int .i64 0, .int .i64 0, .slice none 0 0, .bool false, .bool false, .bool false] 28)).alloc (.cells #[.bool false, .bool false, .int .i64 0] 30)).alloc (.cells #[.slice none 0 0, .int .i64 0, .int .i64 0, .int .i64 0, .int .i64 0, .slice none 0 0, .bool false, .bool false, .bool false] 28)) := hw1
  obtain ⟨x0, x1, x2, x3⟩ := three_frm T0.1
  simp only [] at x0 x1 x2 x3
  have HT := Lib.hid T0
  have HW := Lib.hid hw1'
  have HG := Lib.hid hg
  have HBL := Lib.hid hbl
  have HSZ : Hid (w1.heap.size = g + 1 + 1 + 1 + 1) := Lib.hid (by rw [hsz, hg])
  clear T0 hw1' hw1 hg hbl hsz
  go_enter Try.func21, Try.ntmps21
  go_wp2
  refine wp_scope_fuel 4 ?_
  go_upto_region 2 with fail
  rw [← HW.out, ← HG.out]
  go_wp2_with fail
  with_reducible refine (HV.out w1 HBL.out).mono ?_
  rintro e w2 ⟨rfl, hb2⟩
  have T2 := HT.out.up hb2
  have hbw2 := HBL.out.trans (hb2.mono HBL.out.size)
  have HT2 := Lib.hid T2
  have HB2 := Lib.hid hbw2
  have p4 : w2.cell? ⟨g + 1 + 1 + 1, 4, none⟩ = some (.int .i64 0) := cell_of_row _ (g + 1 + 1 + 1) 4 _ 28 _ HT2.out.2
  have z4 : w2.frozen? ⟨g + 1 + 1 + 1, 4, none⟩ = false := frozen_of_row _ (g + 1 + 1 + 1) 4 _ 28 HT2.out.2
  clear hb2 T2 hbw2
  obtain ⟨w3, hw3⟩ : ∃ w3, w3 = w2.setCell ⟨g + 1 + 1 + 1, 4, none⟩ (.int .i64 0) := ⟨_, rfl⟩
  have T3 := HT2.out.set 4 (.int .i64 0)
  have B3 : Below w.heap.size w w3 := by rw [hw3]; exact HB2.out.setCell (p := ⟨g + 1 + 1 + 1, 4, none⟩) (show w.heap.size ≤ g + 1 + 1 + 1 by have := HG.out; omega) _
  rw [← hw3] at T3
  have HT3 := Lib.hid T3
  have HB3 := Lib.hid B3
  have x2' : w3.cell? ⟨g, 2, none⟩ = some (.int .i64 S) := (three_frm T3.1).2.2.1
  have p43 : w3.cell? ⟨g + 1 + 1 + 1, 4, none⟩ = some (.int .i64 0) := cell_of_row _ (g + 1 + 1 + 1) 4 _ 28 _ T3.2
  have HW3 := Lib.hid hw3
  clear T3 B3 hw3
  go_upto_region 4 with fail
  rw [← HW3.out]
  clear p4 z4
  go_wp2
  go_step3
  refine JF.go (k := 3) rfl ?_
  go_wp2
  refine wp_region_held_drew (S := fun w' => w'.cell? ⟨g, 2, none⟩ = some (.int .i64 S)) (by kernel_rfl) x2' (fun hHeld => ?_)
  refine wpAnyH_take (i := 0) (v := ?_) rfl (by kernel_rfl) (by kernel_rfl) (by kernel_rfl) (fun _ _ _ h => h) (Or.inl ⟨by rfl, ?_⟩) hHeld ?_
  rotate_left
  · intro w hSw
    try dsimp only at hSw
    go_simp
    try with_reducible rfl
  change wpAnyH _ _ _ _ _ _ _ (Act.put _ (some 22) _) _
  simp only [Act.put, List.setIfInBounds_toArray, List.set_cons_zero, List.set_cons_succ]
  refine wpAnyH_take (i := 1) (v := ?_) rfl (by kernel_rfl) (by kernel_rfl) (by kernel_rfl) (fun _ _ _ h => h) (Or.inl ⟨by rfl, ?_⟩) hHeld ?_
  rotate_left
  · intro w hSw
    try dsimp only at hSw
    go_simp
    try with_reducible rfl
  change wpAnyH _ _ _ _ _ _ _ (Act.put _ (some 23) _) _
  simp only [Act.put, List.setIfInBounds_toArray, List.set_cons_zero, List.set_cons_succ]
  refine wpAnyH_take (i := 2) (v := ?_) rfl (by kernel_rfl) (by kernel_rfl) (by kernel_rfl) (fun _ _ _ h => h) (Or.inl ⟨by rfl, ?_⟩) hHeld ?_
  rotate_left
  · intro w hSw
    try dsimp only at hSw
    go_simp
    try with_reducible rfl
  change wpAnyH _ _ _ _ _ _ _ (Act.put _ (some 24) _) _
  simp only [Act.put, List.setIfInBounds_toArray, List.set_cons_zero, List.set_cons_succ]
  refine wpAnyH_take (i := 3) (v := ?_) rfl (by kernel_rfl) (by kernel_rfl) (by kernel_rfl) (fun _ _ _ h => h) (Or.inl ⟨by rfl, ?_⟩) hHeld ?_
  rotate_left
  · intro w hSw
    try dsimp only at hSw
    go_simp
    try with_reducible rfl
  change wpAnyH _ _ _ _ _ _ _ (Act.put _ (some 25) _) _
  simp only [Act.put, List.setIfInBounds_toArray, List.set_cons_zero, List.set_cons_succ]
  refine wpAnyH_take (i := 4) (v := ?_) rfl (by kernel_rfl) (by kernel_rfl) (by kernel_rfl) (fun _ _ _ h => h) (Or.inl ⟨by rfl, ?_⟩) hHeld ?_
  rotate_left
  · intro w hSw
    try dsimp only at hSw
    go_simp
    try with_reducible rfl
  change wpAnyH _ _ _ _ _ _ _ (Act.put _ (some 26) _) _
  simp only [Act.put, List.setIfInBounds_toArray, List.set_cons_zero, List.set_cons_succ]
  refine wpAnyH_ready (rs := [5]) (by kernel_rfl) (by simp) ?_
  refine AllReadyH.cons rfl (fun K hK => ?_) AllReadyH.nil
  refine step_store9 rfl (.tmp 2) (.tmp 22) rfl (g + 1) rfl none none 0 0 0 0 0 0 0 0 false false false rfl HT3.out.1.2.1 (fun yS hkS hrS => ?_)
  have hgS := (hkS.block g (lt_of_heapP HT3.out.1.1) (fun e => by omega)).trans HT3.out.1.1
  have hfS := (hkS.block (g + 1 + 1) (lt_of_heapP HT3.out.1.2.2) (fun e => by omega)).trans HT3.out.1.2.2
  have hbS := HB3.out.drew.trans (hkS.below (fun k e => by have := HG.out; omega) HB3.out.size)
  refine hK.out _ _ (cell_of_row _ g 2 _ 34 _ hgS) (fun hHeld => ?_)
  clear hK K
  refine wpAnyH_ready (rs := [6]) (by kernel_rfl) (by simp) ?_
  refine AllReadyH.cons rfl (fun K hK => ?_) AllReadyH.nil
  refine step_store3 rfl (.tmp 3) (.tmp 26) rfl (g + 1 + 1) rfl true true 1 rfl hfS (fun yT hkT hfT => ?_)
  have hgT := (hkT.block g (lt_of_heapP hgS) (fun e => by omega)).trans hgS
  have hrT := (hkT.block (g + 1) (lt_of_heapP hrS) (fun e => by omega)).trans hrS
  have hbT := hbS.trans (hkT.below (fun k e => by have := HG.out; omega) hbS.size)
  refine hK.out _ _ (cell_of_row _ g 2 _ 34 _ hgT) (fun hHeld => ?_)
  clear hK K
  refine wpAnyH_done (by kernel_rfl) ?_ _
  have r0 : yT.cell? ⟨g + 1, 0, none⟩ = some (.slice none 0 0) := cell_of_row _ (g + 1) 0 _ 28 _ hrT
  have r1 : yT.cell? ⟨g + 1, 1, none⟩ = some (.int .i64 0) := cell_of_row _ (g + 1) 1 _ 28 _ hrT
  have r2 : yT.cell? ⟨g + 1, 2, none⟩ = some (.int .i64 0) := cell_of_row _ (g + 1) 2 _ 28 _ hrT
  have r3 : yT.cell? ⟨g + 1, 3, none⟩ = some (.int .i64 0) := cell_of_row _ (g + 1) 3 _ 28 _ hrT
  have r4 : yT.cell? ⟨g + 1, 4, none⟩ = some (.int .i64 0) := cell_of_row _ (g + 1) 4 _ 28 _ hrT
  have r5 : yT.cell? ⟨g + 1, 5, none⟩ = some (.slice none 0 0) := cell_of_row _ (g + 1) 5 _ 28 _ hrT
  have r6 : yT.cell? ⟨g + 1, 6, none⟩ = some (.bool false) := cell_of_row _ (g + 1) 6 _ 28 _ hrT
  have r7 : yT.cell? ⟨g + 1, 7, none⟩ = some (.bool false) := cell_of_row _ (g + 1) 7 _ 28 _ hrT
  have r8 : yT.cell? ⟨g + 1, 8, none⟩ = some (.bool false) := cell_of_row _ (g + 1) 8 _ 28 _ hrT
  have t0 : yT.cell? ⟨g + 1 + 1, 0, none⟩ = some (.bool true) := cell_of_row _ (g + 1 + 1) 0 _ 30 _ hfT
  have t1 : yT.cell? ⟨g + 1 + 1, 1, none⟩ = some (.bool true) := cell_of_row _ (g + 1 + 1) 1 _ 30 _ hfT
  have t2 : yT.cell? ⟨g + 1 + 1, 2, none⟩ = some (.int .i64 1) := cell_of_row _ (g + 1 + 1) 2 _ 30 _ hfT
  have HN : Hid (PtPost w (noPrt, ⟨true, true, 1⟩) (.returned (.tuple #[.agg #[.slice none 0 0, .int .i64 0, .int .i64 0, .int .i64 0, .int .i64 0, .slice none 0 0, .bool false, .bool false, .bool false], .agg #[.bool true, .bool true, .int .i64 1]])) yT) := Lib.hid (pt_bare rfl rfl hbT)
  clear hgS hfS hbS hgT hrT hbT hrS hfT hkS hkT
  go_wp2
  simp only [jumpsTo]
  refine bodyPost_ret (v := .tuple #[.agg #[.slice none 0 0, .int .i64 0, .int .i64 0, .int .i64 0, .int .i64 0, .slice none 0 0, .bool false, .bool false, .bool false], .agg #[.bool true, .bool true, .int .i64 1]]) (by simp [results, Try.results21, go_sem, r0, r1, r2, r3, r4, r5, r6, r7, r8, t0, t1, t2]) rfl HN.out
set_option maxRecDepth 100000 in
set_option maxHeartbeats 4000000 in
theorem pupd_c (F S : Int) (l : List Nat) (A : Option Addr) (n c : Nat) (w : World) (hs : S ≠ 0) (hm : n = 4) (h0 : val l % 2147483648 = 0) (hA : At .u8 w w.heap.size A l) (hb : ∀ x ∈ l, x < 256) (hl : l.length = n) :
    Calls Try.prog 21 #[.agg #[.int .i64 8, .int .i64 F, .int .i64 S, .slice A n c]] w (PtPost w (noPrt, ⟨true, false, 1⟩)) := by
  obtain ⟨V, hV⟩ : ∃ V, V = val l := ⟨_, rfl⟩
  have hVb : V < 4294967296 := by
    have := val_lt l hb
    rw [hl, hm] at this
    rw [hV]
    exact this
  have HV : Hid (∀ W, Below w.heap.size w W → Calls Try.prog 29 #[.slice A n c] W fun e w' => e = .returned (.int .i64 (V : Int)) ∧ Below W.heap.size W w') := Lib.hid (fun W hb' => by
    rw [hV]
    refine (pnumber_any A l n c W (hA.up hb') hb hl (by omega)).mono ?_
    rintro e w' ⟨rfl, k, rfl⟩
    rw [List.take_of_length_le (by omega)]
    exact ⟨rfl, below_drewN (Below.refl _ _) _⟩)
  have eT : bits .and .i64 (V : Int) 2147483647 = 0 := by rw [and31r V hVb, hV, h0]; rfl
  clear h0
  clear hA hb hl hV hVb
  have k1 : (S == 0) = false := by rw [beq_eq_false_iff_ne]; exact hs
  have k2 : (S != 0) = true := by rw [bne_iff_ne]; exact hs
  clear hs
  have k3 : ((n : Int) == 4) = true := by rw [hm]; rfl
  have k4 : ((n : Int) != 4) = false := by rw [hm]; rfl
  clear hm
  obtain ⟨T0, hbl, hsz⟩ := four_of w (⟨8, F, S, l⟩ : Frm) A n c
  obtain ⟨g, hg⟩ : ∃ g, g = w.heap.size := ⟨_, rfl⟩
  obtain ⟨w1, hw1⟩ : ∃ w1, w1 = w4of w (⟨8, F, S, l⟩ : Frm) A n c := ⟨_, rfl⟩
  rw [← hw1, ← hg] at T0
  rw [← hw1] at hbl hsz
  have hw1' : w1 = ((((w.alloc (.cells #[.int .i64 8, .int .i64 F, .int .i64 S, .slice A n c] 34)).alloc (.cells #[.slice none 0 0, .int .i64 0, .int .i64 0, .int .i64 0, .int .i64 0, .slice none 0 0, .bool false, .bool false, .bool false] 28)).alloc (.cells #[.bool false, .bool false, .int .i64 0] 30)).alloc (.cells #[.slice none 0 0, .int .i64 0, .int .i64 0, .int .i64 0, .int .i64 0, .slice none 0 0, .bool false, .bool false, .bool false] 28)) := hw1
  obtain ⟨x0, x1, x2, x3⟩ := three_frm T0.1
  simp only [] at x0 x1 x2 x3
  have HT := Lib.hid T0
  have HW := Lib.hid hw1'
  have HG := Lib.hid hg
  have HBL := Lib.hid hbl
  have HSZ : Hid (w1.heap.size = g + 1 + 1 + 1 + 1) := Lib.hid (by rw [hsz, hg])
  clear T0 hw1' hw1 hg hbl hsz
  go_enter Try.func21, Try.ntmps21
  go_wp2
  refine wp_scope_fuel 4 ?_
  go_upto_region 2 with fail
  rw [← HW.out, ← HG.out]
  go_wp2_with fail
  with_reducible refine (HV.out w1 HBL.out).mono ?_
  rintro e w2 ⟨rfl, hb2⟩
  have T2 := HT.out.up hb2
  have hbw2 := HBL.out.trans (hb2.mono HBL.out.size)
  have HT2 := Lib.hid T2
  have HB2 := Lib.hid hbw2
  have p4 : w2.cell? ⟨g + 1 + 1 + 1, 4, none⟩ = some (.int .i64 0) := cell_of_row _ (g + 1 + 1 + 1) 4 _ 28 _ HT2.out.2
  have z4 : w2.frozen? ⟨g + 1 + 1 + 1, 4, none⟩ = false := frozen_of_row _ (g + 1 + 1 + 1) 4 _ 28 HT2.out.2
  clear hb2 T2 hbw2
  obtain ⟨w3, hw3⟩ : ∃ w3, w3 = w2.setCell ⟨g + 1 + 1 + 1, 4, none⟩ (.int .i64 0) := ⟨_, rfl⟩
  have T3 := HT2.out.set 4 (.int .i64 0)
  have B3 : Below w.heap.size w w3 := by rw [hw3]; exact HB2.out.setCell (p := ⟨g + 1 + 1 + 1, 4, none⟩) (show w.heap.size ≤ g + 1 + 1 + 1 by have := HG.out; omega) _
  rw [← hw3] at T3
  have HT3 := Lib.hid T3
  have HB3 := Lib.hid B3
  have x2' : w3.cell? ⟨g, 2, none⟩ = some (.int .i64 S) := (three_frm T3.1).2.2.1
  have p43 : w3.cell? ⟨g + 1 + 1 + 1, 4, none⟩ = some (.int .i64 0) := cell_of_row _ (g + 1 + 1 + 1) 4 _ 28 _ T3.2
  have HW3 := Lib.hid hw3
  clear T3 B3 hw3
  go_upto_region 4 with fail
  rw [← HW3.out]
  clear p4 z4
  go_wp2
  go_step3
  refine JF.go (k := 3) rfl ?_
  go_wp2
  refine wp_region_held_drew (S := fun w' => w'.cell? ⟨g, 2, none⟩ = some (.int .i64 S)) (by kernel_rfl) x2' (fun hHeld => ?_)
  refine wpAnyH_take (i := 0) (v := ?_) rfl (by kernel_rfl) (by kernel_rfl) (by kernel_rfl) (fun _ _ _ h => h) (Or.inl ⟨by rfl, ?_⟩) hHeld ?_
  rotate_left
  · intro w hSw
    try dsimp only at hSw
    go_simp
    try with_reducible rfl
  change wpAnyH _ _ _ _ _ _ _ (Act.put _ (some 22) _) _
  simp only [Act.put, List.setIfInBounds_toArray, List.set_cons_zero, List.set_cons_succ]
  refine wpAnyH_take (i := 1) (v := ?_) rfl (by kernel_rfl) (by kernel_rfl) (by kernel_rfl) (fun _ _ _ h => h) (Or.inl ⟨by rfl, ?_⟩) hHeld ?_
  rotate_left
  · intro w hSw
    try dsimp only at hSw
    go_simp
    try with_reducible rfl
  change wpAnyH _ _ _ _ _ _ _ (Act.put _ (some 23) _) _
  simp only [Act.put, List.setIfInBounds_toArray, List.set_cons_zero, List.set_cons_succ]
  refine wpAnyH_take (i := 2) (v := ?_) rfl (by kernel_rfl) (by kernel_rfl) (by kernel_rfl) (fun _ _ _ h => h) (Or.inl ⟨by rfl, ?_⟩) hHeld ?_
  rotate_left
  · intro w hSw
    try dsimp only at hSw
    go_simp
    try with_reducible rfl
  change wpAnyH _ _ _ _ _ _ _ (Act.put _ (some 24) _) _
  simp only [Act.put, List.setIfInBounds_toArray, List.set_cons_zero, List.set_cons_succ]
  refine wpAnyH_take (i := 3) (v := ?_) rfl (by kernel_rfl) (by kernel_rfl) (by kernel_rfl) (fun _ _ _ h => h) (Or.inl ⟨by rfl, ?_⟩) hHeld ?_
  rotate_left
  · intro w hSw
    try dsimp only at hSw
    go_simp
    try with_reducible rfl
  change wpAnyH _ _ _ _ _ _ _ (Act.put _ (some 25) _) _
  simp only [Act.put, List.setIfInBounds_toArray, List.set_cons_zero, List.set_cons_succ]
  refine wpAnyH_take (i := 4) (v := ?_) rfl (by kernel_rfl) (by kernel_rfl) (by kernel_rfl) (fun _ _ _ h => h) (Or.inl ⟨by rfl, ?_⟩) hHeld ?_
  rotate_left
  · intro w hSw
    try dsimp only at hSw
    go_simp
    try with_reducible rfl
  change wpAnyH _ _ _ _ _ _ _ (Act.put _ (some 26) _) _
  simp only [Act.put, List.setIfInBounds_toArray, List.set_cons_zero, List.set_cons_succ]
  refine wpAnyH_ready (rs := [5]) (by kernel_rfl) (by simp) ?_
  refine AllReadyH.cons rfl (fun K hK => ?_) AllReadyH.nil
  refine step_store9 rfl (.tmp 2) (.tmp 22) rfl (g + 1) rfl none none 0 0 0 0 0 0 0 0 false false false rfl HT3.out.1.2.1 (fun yS hkS hrS => ?_)
  have hgS := (hkS.block g (lt_of_heapP HT3.out.1.1) (fun e => by omega)).trans HT3.out.1.1
  have hfS := (hkS.block (g + 1 + 1) (lt_of_heapP HT3.out.1.2.2) (fun e => by omega)).trans HT3.out.1.2.2
  have hbS := HB3.out.drew.trans (hkS.below (fun k e => by have := HG.out; omega) HB3.out.size)
  refine hK.out _ _ (cell_of_row _ g 2 _ 34 _ hgS) (fun hHeld => ?_)
  clear hK K
  refine wpAnyH_ready (rs := [6]) (by kernel_rfl) (by simp) ?_
  refine AllReadyH.cons rfl (fun K hK => ?_) AllReadyH.nil
  refine step_store3 rfl (.tmp 3) (.tmp 26) rfl (g + 1 + 1) rfl true false 1 rfl hfS (fun yT hkT hfT => ?_)
  have hgT := (hkT.block g (lt_of_heapP hgS) (fun e => by omega)).trans hgS
  have hrT := (hkT.block (g + 1) (lt_of_heapP hrS) (fun e => by omega)).trans hrS
  have hbT := hbS.trans (hkT.below (fun k e => by have := HG.out; omega) hbS.size)
  refine hK.out _ _ (cell_of_row _ g 2 _ 34 _ hgT) (fun hHeld => ?_)
  clear hK K
  refine wpAnyH_done (by kernel_rfl) ?_ _
  have r0 : yT.cell? ⟨g + 1, 0, none⟩ = some (.slice none 0 0) := cell_of_row _ (g + 1) 0 _ 28 _ hrT
  have r1 : yT.cell? ⟨g + 1, 1, none⟩ = some (.int .i64 0) := cell_of_row _ (g + 1) 1 _ 28 _ hrT
  have r2 : yT.cell? ⟨g + 1, 2, none⟩ = some (.int .i64 0) := cell_of_row _ (g + 1) 2 _ 28 _ hrT
  have r3 : yT.cell? ⟨g + 1, 3, none⟩ = some (.int .i64 0) := cell_of_row _ (g + 1) 3 _ 28 _ hrT
  have r4 : yT.cell? ⟨g + 1, 4, none⟩ = some (.int .i64 0) := cell_of_row _ (g + 1) 4 _ 28 _ hrT
  have r5 : yT.cell? ⟨g + 1, 5, none⟩ = some (.slice none 0 0) := cell_of_row _ (g + 1) 5 _ 28 _ hrT
  have r6 : yT.cell? ⟨g + 1, 6, none⟩ = some (.bool false) := cell_of_row _ (g + 1) 6 _ 28 _ hrT
  have r7 : yT.cell? ⟨g + 1, 7, none⟩ = some (.bool false) := cell_of_row _ (g + 1) 7 _ 28 _ hrT
  have r8 : yT.cell? ⟨g + 1, 8, none⟩ = some (.bool false) := cell_of_row _ (g + 1) 8 _ 28 _ hrT
  have t0 : yT.cell? ⟨g + 1 + 1, 0, none⟩ = some (.bool true) := cell_of_row _ (g + 1 + 1) 0 _ 30 _ hfT
  have t1 : yT.cell? ⟨g + 1 + 1, 1, none⟩ = some (.bool false) := cell_of_row _ (g + 1 + 1) 1 _ 30 _ hfT
  have t2 : yT.cell? ⟨g + 1 + 1, 2, none⟩ = some (.int .i64 1) := cell_of_row _ (g + 1 + 1) 2 _ 30 _ hfT
  have HN : Hid (PtPost w (noPrt, ⟨true, false, 1⟩) (.returned (.tuple #[.agg #[.slice none 0 0, .int .i64 0, .int .i64 0, .int .i64 0, .int .i64 0, .slice none 0 0, .bool false, .bool false, .bool false], .agg #[.bool true, .bool false, .int .i64 1]])) yT) := Lib.hid (pt_bare rfl rfl hbT)
  clear hgS hfS hbS hgT hrT hbT hrS hfT hkS hkT
  go_wp2
  simp only [jumpsTo]
  refine bodyPost_ret (v := .tuple #[.agg #[.slice none 0 0, .int .i64 0, .int .i64 0, .int .i64 0, .int .i64 0, .slice none 0 0, .bool false, .bool false, .bool false], .agg #[.bool true, .bool false, .int .i64 1]]) (by simp [results, Try.results21, go_sem, r0, r1, r2, r3, r4, r5, r6, r7, r8, t0, t1, t2]) rfl HN.out
set_option maxRecDepth 100000 in
set_option maxHeartbeats 4000000 in
theorem pupd_d (F S : Int) (l : List Nat) (A : Option Addr) (n c : Nat) (w : World) (hm : n = 4) (h0 : ¬ val l % 2147483648 = 0) (hA : At .u8 w w.heap.size A l) (hb : ∀ x ∈ l, x < 256) (hl : l.length = n) :
    Calls Try.prog 21 #[.agg #[.int .i64 8, .int .i64 F, .int .i64 S, .slice A n c]] w (PtPost w (⟨[], 0, 0, 0, val l % 2147483648, [], false, false, false⟩, noFlt)) := by
  obtain ⟨V, hV⟩ : ∃ V, V = val l := ⟨_, rfl⟩
  have hVb : V < 4294967296 := by
    have := val_lt l hb
    rw [hl, hm] at this
    rw [hV]
    exact this
  have HV : Hid (∀ W, Below w.heap.size w W → Calls Try.prog 29 #[.slice A n c] W fun e w' => e = .returned (.int .i64 (V : Int)) ∧ Below W.heap.size W w') := Lib.hid (fun W hb' => by
    rw [hV]
    refine (pnumber_any A l n c W (hA.up hb') hb hl (by omega)).mono ?_
    rintro e w' ⟨rfl, k, rfl⟩
    rw [List.take_of_length_le (by omega)]
    exact ⟨rfl, below_drewN (Below.refl _ _) _⟩)
  obtain ⟨T, hT⟩ : ∃ T, T = V % 2147483648 := ⟨_, rfl⟩
  have eT : bits .and .i64 (V : Int) 2147483647 = (T : Int) := by rw [and31r V hVb, hT]
  have eT0 : ((T : Int) == 0) = false := by rw [beq_eq_false_iff_ne]; rw [← hV] at h0; omega
  rw [← hV, ← hT]
  clear h0 hT
  clear hA hb hl hV hVb
  have k3 : ((n : Int) == 4) = true := by rw [hm]; rfl
  have k4 : ((n : Int) != 4) = false := by rw [hm]; rfl
  clear hm
  obtain ⟨T0, hbl, hsz⟩ := four_of w (⟨8, F, S, l⟩ : Frm) A n c
  obtain ⟨g, hg⟩ : ∃ g, g = w.heap.size := ⟨_, rfl⟩
  obtain ⟨w1, hw1⟩ : ∃ w1, w1 = w4of w (⟨8, F, S, l⟩ : Frm) A n c := ⟨_, rfl⟩
  rw [← hw1, ← hg] at T0
  rw [← hw1] at hbl hsz
  have hw1' : w1 = ((((w.alloc (.cells #[.int .i64 8, .int .i64 F, .int .i64 S, .slice A n c] 34)).alloc (.cells #[.slice none 0 0, .int .i64 0, .int .i64 0, .int .i64 0, .int .i64 0, .slice none 0 0, .bool false, .bool false, .bool false] 28)).alloc (.cells #[.bool false, .bool false, .int .i64 0] 30)).alloc (.cells #[.slice none 0 0, .int .i64 0, .int .i64 0, .int .i64 0, .int .i64 0, .slice none 0 0, .bool false, .bool false, .bool false] 28)) := hw1
  obtain ⟨x0, x1, x2, x3⟩ := three_frm T0.1
  simp only [] at x0 x1 x2 x3
  have HT := Lib.hid T0
  have HW := Lib.hid hw1'
  have HG := Lib.hid hg
  have HBL := Lib.hid hbl
  have HSZ : Hid (w1.heap.size = g + 1 + 1 + 1 + 1) := Lib.hid (by rw [hsz, hg])
  clear T0 hw1' hw1 hg hbl hsz
  go_enter Try.func21, Try.ntmps21
  go_wp2
  refine wp_scope_fuel 4 ?_
  go_upto_region 2 with fail
  rw [← HW.out, ← HG.out]
  go_wp2_with fail
  with_reducible refine (HV.out w1 HBL.out).mono ?_
  rintro e w2 ⟨rfl, hb2⟩
  have T2 := HT.out.up hb2
  have hbw2 := HBL.out.trans (hb2.mono HBL.out.size)
  have HT2 := Lib.hid T2
  have HB2 := Lib.hid hbw2
  have p4 : w2.cell? ⟨g + 1 + 1 + 1, 4, none⟩ = some (.int .i64 0) := cell_of_row _ (g + 1 + 1 + 1) 4 _ 28 _ HT2.out.2
  have z4 : w2.frozen? ⟨g + 1 + 1 + 1, 4, none⟩ = false := frozen_of_row _ (g + 1 + 1 + 1) 4 _ 28 HT2.out.2
  clear hb2 T2 hbw2
  obtain ⟨w3, hw3⟩ : ∃ w3, w3 = w2.setCell ⟨g + 1 + 1 + 1, 4, none⟩ (.int .i64 (T : Int)) := ⟨_, rfl⟩
  have T3 := HT2.out.set 4 (.int .i64 (T : Int))
  have B3 : Below w.heap.size w w3 := by rw [hw3]; exact HB2.out.setCell (p := ⟨g + 1 + 1 + 1, 4, none⟩) (show w.heap.size ≤ g + 1 + 1 + 1 by have := HG.out; omega) _
  rw [← hw3] at T3
  have HT3 := Lib.hid T3
  have HB3 := Lib.hid B3
  have HW3 := Lib.hid hw3
  clear T3 B3 hw3
  go_upto_region 4 with fail
  rw [← HW3.out]
  clear p4 z4
  have p0 : w3.cell? ⟨g + 1 + 1 + 1, 0, none⟩ = some (.slice none 0 0) := cell_of_row _ (g + 1 + 1 + 1) 0 _ 28 _ HT3.out.2
  have p1 : w3.cell? ⟨g + 1 + 1 + 1, 1, none⟩ = some (.int .i64 0) := cell_of_row _ (g + 1 + 1 + 1) 1 _ 28 _ HT3.out.2
  have p2 : w3.cell? ⟨g + 1 + 1 + 1, 2, none⟩ = some (.int .i64 0) := cell_of_row _ (g + 1 + 1 + 1) 2 _ 28 _ HT3.out.2
  have p3 : w3.cell? ⟨g + 1 + 1 + 1, 3, none⟩ = some (.int .i64 0) := cell_of_row _ (g + 1 + 1 + 1) 3 _ 28 _ HT3.out.2
  have p4 : w3.cell? ⟨g + 1 + 1 + 1, 4, none⟩ = some (.int .i64 (T : Int)) := cell_of_row _ (g + 1 + 1 + 1) 4 _ 28 _ HT3.out.2
  have p5 : w3.cell? ⟨g + 1 + 1 + 1, 5, none⟩ = some (.slice none 0 0) := cell_of_row _ (g + 1 + 1 + 1) 5 _ 28 _ HT3.out.2
  have p6 : w3.cell? ⟨g + 1 + 1 + 1, 6, none⟩ = some (.bool false) := cell_of_row _ (g + 1 + 1 + 1) 6 _ 28 _ HT3.out.2
  have p7 : w3.cell? ⟨g + 1 + 1 + 1, 7, none⟩ = some (.bool false) := cell_of_row _ (g + 1 + 1 + 1) 7 _ 28 _ HT3.out.2
  have p8 : w3.cell? ⟨g + 1 + 1 + 1, 8, none⟩ = some (.bool false) := cell_of_row _ (g + 1 + 1 + 1) 8 _ 28 _ HT3.out.2
  have r0 : w3.cell? ⟨g + 1, 0, none⟩ = some (.slice none 0 0) := cell_of_row _ (g + 1) 0 _ 28 _ HT3.out.1.2.1
  have r1 : w3.cell? ⟨g + 1, 1, none⟩ = some (.int .i64 0) := cell_of_row _ (g + 1) 1 _ 28 _ HT3.out.1.2.1
  have r2 : w3.cell? ⟨g + 1, 2, none⟩ = some (.int .i64 0) := cell_of_row _ (g + 1) 2 _ 28 _ HT3.out.1.2.1
  have r3 : w3.cell? ⟨g + 1, 3, none⟩ = some (.int .i64 0) := cell_of_row _ (g + 1) 3 _ 28 _ HT3.out.1.2.1
  have r4 : w3.cell? ⟨g + 1, 4, none⟩ = some (.int .i64 0) := cell_of_row _ (g + 1) 4 _ 28 _ HT3.out.1.2.1
  have r5 : w3.cell? ⟨g + 1, 5, none⟩ = some (.slice none 0 0) := cell_of_row _ (g + 1) 5 _ 28 _ HT3.out.1.2.1
  have r6 : w3.cell? ⟨g + 1, 6, none⟩ = some (.bool false) := cell_of_row _ (g + 1) 6 _ 28 _ HT3.out.1.2.1
  have r7 : w3.cell? ⟨g + 1, 7, none⟩ = some (.bool false) := cell_of_row _ (g + 1) 7 _ 28 _ HT3.out.1.2.1
  have r8 : w3.cell? ⟨g + 1, 8, none⟩ = some (.bool false) := cell_of_row _ (g + 1) 8 _ 28 _ HT3.out.1.2.1
  have t0 : w3.cell? ⟨g + 1 + 1, 0, none⟩ = some (.bool false) := cell_of_row _ (g + 1 + 1) 0 _ 30 _ HT3.out.1.2.2
  have t1 : w3.cell? ⟨g + 1 + 1, 1, none⟩ = some (.bool false) := cell_of_row _ (g + 1 + 1) 1 _ 30 _ HT3.out.1.2.2
  have t2 : w3.cell? ⟨g + 1 + 1, 2, none⟩ = some (.int .i64 0) := cell_of_row _ (g + 1 + 1) 2 _ 30 _ HT3.out.1.2.2
  obtain ⟨f0, f1, f2, f3, f4, f5, f6, f7, f8, u0, u1, u2⟩ := three_froz HT3.out.1
  have HN : Hid (PtPost w (⟨[], 0, 0, 0, T, [], false, false, false⟩, noFlt) (.returned (.tuple #[.agg #[.slice none 0 0, .int .i64 0, .int .i64 0, .int .i64 0, .int .i64 (T : Int), .slice none 0 0, .bool false, .bool false, .bool false], .agg #[.bool false, .bool false, .int .i64 0]])) (stores w3 g (.slice none 0 0) (.int .i64 0) (.int .i64 0) (.int .i64 0) (.int .i64 (T : Int)) (.slice none 0 0) (.bool false) (.bool false) (.bool false) (.bool false) (.bool false) (.int .i64 0))) := Lib.hid (rd_bare HG.out HB3.out rfl rfl _ _ _ _ _ _ _ _ _ _ _ _)
  go_wp2
  simp only [jumpsTo]
  refine bodyPost_ret (v := .tuple #[.agg #[.slice none 0 0, .int .i64 0, .int .i64 0, .int .i64 0, .int .i64 (T : Int), .slice none 0 0, .bool false, .bool false, .bool false], .agg #[.bool false, .bool false, .int .i64 0]]) (by simp [results, Try.results21, go_sem, r0, r1, r2, r3, r4, r5, r6, r7, r8, t0, t1, t2]) rfl HN.out
end Go.Proofs.Ytelbldhnlmggiaa
