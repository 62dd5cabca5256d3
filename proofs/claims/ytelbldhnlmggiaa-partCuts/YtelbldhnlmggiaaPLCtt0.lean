/- The landed content: Data. -/
import Derived.Test.YtelbldhnlmggiaaPLNum
import Derived.Test.YtelbldhnlmggiaaPLSmall
import Derived.Test.YtelbldhnlmggiaaLJump
import Derived.Test.YtelbldhnlmggiaaFVal
import Derived.Test.YtelbldhnlmggiaaLClone
import Derived.Test.YtelbldhnlmggiaaLCut
import Derived.Deep.DeepCutAuto
namespace Go.Proofs.Ytelbldhnlmggiaa
open Go.RowKit Fr

theorem and_off (F : Int) (j : Nat) (hj : j < 62) : (bits .and .i64 F ((2 ^ j : Nat) : Int) == 0) = !bit F j := by
  have := and_on F j hj
  rw [← this, bne, Bool.not_not]
set_option maxRecDepth 100000 in
set_option maxHeartbeats 4000000 in
theorem pctt0_a (F S : Int) (l : List Nat) (A : Option Addr) (n c : Nat) (w : World) (hs : S = 0) :
    Calls Try.prog 17 #[.agg #[.int .i64 0, .int .i64 F, .int .i64 S, .slice A n c]] w (PtPost w (noPrt, ⟨true, true, 1⟩)) := by
  have k1 : (S == 0) = true := by rw [hs]; rfl
  have k2 : (S != 0) = false := by rw [hs]; rfl
  clear hs
  obtain ⟨T0, hbl, hsz⟩ := four_of w (⟨0, F, S, l⟩ : Frm) A n c
  obtain ⟨g, hg⟩ : ∃ g, g = w.heap.size := ⟨_, rfl⟩
  obtain ⟨w1, hw1⟩ : ∃ w1, w1 = w4of w (⟨0, F, S, l⟩ : Frm) A n c := ⟨_, rfl⟩
  rw [← hw1, ← hg] at T0
  rw [← hw1] at hbl hsz
  have hw1' : w1 = ((((w.alloc (.cells #[.int .i64 0, .int .i64 F, .int .i64 S, .slice A n c] 34)).alloc (.cells #[.slice none 0 0, .int .i64 0, .int .i64 0, .int .i64 0, .int .i64 0, .slice none 0 0, .bool false, .bool false, .bool false] 28)).alloc (.cells #[.bool false, .bool false, .int .i64 0] 30)).alloc (.cells #[.slice none 0 0, .int .i64 0, .int .i64 0, .int .i64 0, .int .i64 0, .slice none 0 0, .bool false, .bool false, .bool false] 28)) := hw1
  obtain ⟨x0, x1, x2, x3⟩ := three_frm T0.1
  simp only [] at x0 x1 x2 x3
  have HT := Lib.hid T0
  have HW := Lib.hid hw1'
  have HG := Lib.hid hg
  have HBL := Lib.hid hbl
  have HSZ : Hid (w1.heap.size = g + 1 + 1 + 1 + 1) := Lib.hid (by rw [hsz, hg])
  clear T0 hw1' hw1 hg hbl hsz
  go_enter Try.func17, Try.ntmps17
  go_wp2
  refine wp_scope_fuel 4 ?_
  go_upto_region 2 with fail
  rw [← HW.out, ← HG.out]
  go_wp2
  go_step3
  refine JF.go (k := 3) rfl ?_
  go_wp2_with fail
  with_reducible refine (pfault_any 1 w1).mono ?_
  rintro e w9 ⟨rfl, hb9⟩
  have T9 := HT.out.up hb9
  have r0 : w9.cell? ⟨g + 1, 0, none⟩ = some (.slice none 0 0) := cell_of_row _ (g + 1) 0 _ 28 _ T9.1.2.1
  have r1 : w9.cell? ⟨g + 1, 1, none⟩ = some (.int .i64 0) := cell_of_row _ (g + 1) 1 _ 28 _ T9.1.2.1
  have r2 : w9.cell? ⟨g + 1, 2, none⟩ = some (.int .i64 0) := cell_of_row _ (g + 1) 2 _ 28 _ T9.1.2.1
  have r3 : w9.cell? ⟨g + 1, 3, none⟩ = some (.int .i64 0) := cell_of_row _ (g + 1) 3 _ 28 _ T9.1.2.1
  have r4 : w9.cell? ⟨g + 1, 4, none⟩ = some (.int .i64 0) := cell_of_row _ (g + 1) 4 _ 28 _ T9.1.2.1
  have r5 : w9.cell? ⟨g + 1, 5, none⟩ = some (.slice none 0 0) := cell_of_row _ (g + 1) 5 _ 28 _ T9.1.2.1
  have r6 : w9.cell? ⟨g + 1, 6, none⟩ = some (.bool false) := cell_of_row _ (g + 1) 6 _ 28 _ T9.1.2.1
  have r7 : w9.cell? ⟨g + 1, 7, none⟩ = some (.bool false) := cell_of_row _ (g + 1) 7 _ 28 _ T9.1.2.1
  have r8 : w9.cell? ⟨g + 1, 8, none⟩ = some (.bool false) := cell_of_row _ (g + 1) 8 _ 28 _ T9.1.2.1
  have t0 : w9.cell? ⟨g + 1 + 1, 0, none⟩ = some (.bool false) := cell_of_row _ (g + 1 + 1) 0 _ 30 _ T9.1.2.2
  have t1 : w9.cell? ⟨g + 1 + 1, 1, none⟩ = some (.bool false) := cell_of_row _ (g + 1 + 1) 1 _ 30 _ T9.1.2.2
  have t2 : w9.cell? ⟨g + 1 + 1, 2, none⟩ = some (.int .i64 0) := cell_of_row _ (g + 1 + 1) 2 _ 30 _ T9.1.2.2
  obtain ⟨f0, f1, f2, f3, f4, f5, f6, f7, f8, u0, u1, u2⟩ := three_froz T9.1
  have HN : Hid (PtPost w (noPrt, ⟨true, true, 1⟩) (.returned (.tuple #[.agg #[.slice none 0 0, .int .i64 0, .int .i64 0, .int .i64 0, .int .i64 0, .slice none 0 0, .bool false, .bool false, .bool false], .agg #[.bool true, .bool true, .int .i64 1]])) (stores w9 g (.slice none 0 0) (.int .i64 0) (.int .i64 0) (.int .i64 0) (.int .i64 0) (.slice none 0 0) (.bool false) (.bool false) (.bool false) (.bool true) (.bool true) (.int .i64 1))) := Lib.hid (rd_bare HG.out (HBL.out.trans (hb9.mono HBL.out.size)) rfl rfl _ _ _ _ _ _ _ _ _ _ _ _)
  clear T9 hb9
  go_wp2
  simp only [jumpsTo]
  refine bodyPost_ret (v := .tuple #[.agg #[.slice none 0 0, .int .i64 0, .int .i64 0, .int .i64 0, .int .i64 0, .slice none 0 0, .bool false, .bool false, .bool false], .agg #[.bool true, .bool true, .int .i64 1]]) (by simp [results, Try.results17, go_sem, r0, r1, r2, r3, r4, r5, r6, r7, r8, t0, t1, t2]) rfl HN.out
set_option maxRecDepth 100000 in
set_option maxHeartbeats 4000000 in
theorem pctt0_b (F S : Int) (l : List Nat) (A : Option Addr) (n c : Nat) (w : World) (hs : S ≠ 0) (hA : At .u8 w w.heap.size A l) (hl : l.length = n) (hc : A = none → c = 0) (hcl : n ≤ c) (hn : n ≤ 100000) (h3 : bit F 3 = false) :
    Calls Try.prog 17 #[.agg #[.int .i64 0, .int .i64 F, .int .i64 S, .slice A n c]] w (PtPost w (⟨l, 0, 0, 0, 0, [], bit F 0, false, false⟩, noFlt)) := by
  have k1 : (S == 0) = false := by rw [beq_eq_false_iff_ne]; exact hs
  have k2 : (S != 0) = true := by rw [bne_iff_ne]; exact hs
  clear hs
  have HL0 : Hid (l.length = n) := Lib.hid hl
  have e8 : (bits .and .i64 F 8 == 0) = true := by
    have := and_off F 3 (by omega)
    rw [show ((2 ^ 3 : Nat) : Int) = 8 from rfl, h3] at this
    exact this
  have k7 : ¬ (n : Int) < 0 := by omega
  obtain ⟨q, hq⟩ : ∃ q, q = n := ⟨_, rfl⟩
  have ewq : IntKind.i64.wrap (n : Int) = (q : Int) := by rw [hq]; exact i64_ofNat _ (by omega)
  obtain ⟨A3, hA3⟩ : ∃ A3, A3 = cutAt A c 0 := ⟨_, rfl⟩
  have hsq := fun (W : World) => slice_h A n c q W (by omega)
  rw [← hA3] at hsq
  have iq0 : (0 : Int) ≤ (q : Int) := by omega
  have iqc : (q : Int) ≤ (c : Int) := by omega
  obtain ⟨D, hD⟩ : ∃ D, D = l.take q := ⟨_, rfl⟩
  have HCP : Hid (∀ W, Below w.heap.size w W → Calls Try.prog 28 #[.slice A3 q c] W (RowPost W.heap.size W D)) := Lib.hid (fun W hb' => by
    rw [hA3, hD]
    exact bclone_any _ (l.take q) q c W ((hA.up hb').take (by omega)) (by rw [List.length_take]; omega) (fun h => by have := cutAt_none hc h; omega) (by omega))
  have HL : Hid (D.length = q) := Lib.hid (by rw [hD, List.length_take]; omega)
  have HD : Hid (l = D) := Lib.hid (by rw [hD, List.take_of_length_le (by omega)])
  rw [HD.out]
  have e1 : (bits .and .i64 F 1 != 0) = bit F 0 := by
    have := and_on F 0 (by omega)
    rw [show ((2 ^ 0 : Nat) : Int) = 1 from rfl] at this
    exact this
  have e4 : (bits .and .i64 F 4 != 0) = bit F 2 := by
    have := and_on F 2 (by omega)
    rw [show ((2 ^ 2 : Nat) : Int) = 4 from rfl] at this
    exact this
  clear hA hl hc hcl hn h3 hA3 hq hD 
  obtain ⟨T0, hbl, hsz⟩ := four_of w (⟨0, F, S, l⟩ : Frm) A n c
  obtain ⟨g, hg⟩ : ∃ g, g = w.heap.size := ⟨_, rfl⟩
  obtain ⟨w1, hw1⟩ : ∃ w1, w1 = w4of w (⟨0, F, S, l⟩ : Frm) A n c := ⟨_, rfl⟩
  rw [← hw1, ← hg] at T0
  rw [← hw1] at hbl hsz
  have hw1' : w1 = ((((w.alloc (.cells #[.int .i64 0, .int .i64 F, .int .i64 S, .slice A n c] 34)).alloc (.cells #[.slice none 0 0, .int .i64 0, .int .i64 0, .int .i64 0, .int .i64 0, .slice none 0 0, .bool false, .bool false, .bool false] 28)).alloc (.cells #[.bool false, .bool false, .int .i64 0] 30)).alloc (.cells #[.slice none 0 0, .int .i64 0, .int .i64 0, .int .i64 0, .int .i64 0, .slice none 0 0, .bool false, .bool false, .bool false] 28)) := hw1
  obtain ⟨x0, x1, x2, x3⟩ := three_frm T0.1
  simp only [] at x0 x1 x2 x3
  have HT := Lib.hid T0
  have HW := Lib.hid hw1'
  have HG := Lib.hid hg
  have HBL := Lib.hid hbl
  have HSZ : Hid (w1.heap.size = g + 1 + 1 + 1 + 1) := Lib.hid (by rw [hsz, hg])
  clear T0 hw1' hw1 hg hbl hsz
  go_enter Try.func17, Try.ntmps17
  go_wp2
  refine wp_scope_fuel 4 ?_
  go_upto_region 2 with fail
  rw [← HW.out, ← HG.out]
  go_wp2_with fail
  go_step3
  refine JF.go (k := 3) rfl ?_
  go_wp2_with fail
  go_step3
  refine JF.go (k := 2) rfl ?_
  go_wp2_with fail
  go_wp2_with fail
  with_reducible refine (HCP.out w1 HBL.out).mono ?_
  rintro e w5 ⟨v5, rfl, hr5, hb5⟩
  obtain ⟨Ax, cx, hv5⟩ := own_shape hr5
  rw [HL.out] at hv5 hr5
  subst hv5
  have T5 := HT.out.up hb5
  have hbw5 := HBL.out.trans (hb5.mono HBL.out.size)
  have HT5 := Lib.hid T5
  have HB5 := Lib.hid hbw5
  have HR5 := Lib.hid hr5
  have p0 : w5.cell? ⟨g + 1 + 1 + 1, 0, none⟩ = some (.slice none 0 0) := cell_of_row _ (g + 1 + 1 + 1) 0 _ 28 _ HT5.out.2
  have z0 : w5.frozen? ⟨g + 1 + 1 + 1, 0, none⟩ = false := frozen_of_row _ (g + 1 + 1 + 1) 0 _ 28 HT5.out.2
  clear hb5 T5 hbw5 hr5
  obtain ⟨w6, hw6⟩ : ∃ w6, w6 = w5.setCell ⟨g + 1 + 1 + 1, 0, none⟩ (.slice Ax q cx) := ⟨_, rfl⟩
  have T6 := HT5.out.set 0 (.slice Ax q cx)
  have B6 : Below w.heap.size w w6 := by rw [hw6]; exact HB5.out.setCell (p := ⟨g + 1 + 1 + 1, 0, none⟩) (show w.heap.size ≤ g + 1 + 1 + 1 by have := HG.out; omega) _
  rw [← hw6] at T6
  have R6 : w6.ownsRow w1.heap.size 5 1 (.slice Ax q cx) q (cn .u8 D) := by
    rw [hw6]
    exact row_keeps HR5.out ((Keeps.refl (fun k => k = g + 1 + 1 + 1) w5).setCell (S := fun k => k = g + 1 + 1 + 1) (p := ⟨g + 1 + 1 + 1, 0, none⟩) rfl _) (fun k hk e => by have := own_block HR5.out k hk; have := HSZ.out; omega)
  have HT6 := Lib.hid T6
  have HB6 := Lib.hid B6
  have HR6 := Lib.hid R6
  have HW6 := Lib.hid hw6
  have x0_6 : w6.cell? ⟨g, 0, none⟩ = some (.int .i64 0) := (three_frm T6.1).1
  have x1_6 : w6.cell? ⟨g, 1, none⟩ = some (.int .i64 F) := (three_frm T6.1).2.1
  clear T6 B6 R6 hw6
  go_upto_region 15 with fail
  rw [← HW6.out]
  clear p0 z0
  have p6 : w6.cell? ⟨g + 1 + 1 + 1, 6, none⟩ = some (.bool false) := cell_of_row _ (g + 1 + 1 + 1) 6 _ 28 _ HT6.out.2
  have z6 : w6.frozen? ⟨g + 1 + 1 + 1, 6, none⟩ = false := frozen_of_row _ (g + 1 + 1 + 1) 6 _ 28 HT6.out.2
  obtain ⟨w7, hw7⟩ : ∃ w7, w7 = w6.setCell ⟨g + 1 + 1 + 1, 6, none⟩ (.bool (bit F 0)) := ⟨_, rfl⟩
  have T7 := HT6.out.set 6 (.bool (bit F 0))
  have B7 : Below w.heap.size w w7 := by rw [hw7]; exact HB6.out.setCell (p := ⟨g + 1 + 1 + 1, 6, none⟩) (show w.heap.size ≤ g + 1 + 1 + 1 by have := HG.out; omega) _
  rw [← hw7] at T7
  have R7 : w7.ownsRow w1.heap.size 5 1 (.slice Ax q cx) q (cn .u8 D) := by
    rw [hw7]
    exact row_keeps HR6.out ((Keeps.refl (fun k => k = g + 1 + 1 + 1) w6).setCell (S := fun k => k = g + 1 + 1 + 1) (p := ⟨g + 1 + 1 + 1, 6, none⟩) rfl _) (fun k hk e => by have := own_block HR6.out k hk; have := HSZ.out; omega)
  have HT7 := Lib.hid T7
  have HB7 := Lib.hid B7
  have HR7 := Lib.hid R7
  have HW7 := Lib.hid hw7
  have x0_7 : w7.cell? ⟨g, 0, none⟩ = some (.int .i64 0) := (three_frm T7.1).1
  have x1_7 : w7.cell? ⟨g, 1, none⟩ = some (.int .i64 F) := (three_frm T7.1).2.1
  clear T7 B7 R7 hw7
  go_upto_region 16 with fail
  rw [← HW7.out]
  clear p6 z6 x0_6 x1_6
  have p8 : w7.cell? ⟨g + 1 + 1 + 1, 8, none⟩ = some (.bool false) := cell_of_row _ (g + 1 + 1 + 1) 8 _ 28 _ HT7.out.2
  have z8 : w7.frozen? ⟨g + 1 + 1 + 1, 8, none⟩ = false := frozen_of_row _ (g + 1 + 1 + 1) 8 _ 28 HT7.out.2
  obtain ⟨w8, hw8⟩ : ∃ w8, w8 = w7.setCell ⟨g + 1 + 1 + 1, 8, none⟩ (.bool false) := ⟨_, rfl⟩
  have T8 := HT7.out.set 8 (.bool false)
  have B8 : Below w.heap.size w w8 := by rw [hw8]; exact HB7.out.setCell (p := ⟨g + 1 + 1 + 1, 8, none⟩) (show w.heap.size ≤ g + 1 + 1 + 1 by have := HG.out; omega) _
  rw [← hw8] at T8
  have R8 : w8.ownsRow w1.heap.size 5 1 (.slice Ax q cx) q (cn .u8 D) := by
    rw [hw8]
    exact row_keeps HR7.out ((Keeps.refl (fun k => k = g + 1 + 1 + 1) w7).setCell (S := fun k => k = g + 1 + 1 + 1) (p := ⟨g + 1 + 1 + 1, 8, none⟩) rfl _) (fun k hk e => by have := own_block HR7.out k hk; have := HSZ.out; omega)
  have HT8 := Lib.hid T8
  have HB8 := Lib.hid B8
  have HR8 := Lib.hid R8
  have HW8 := Lib.hid hw8
  have x0_8 : w8.cell? ⟨g, 0, none⟩ = some (.int .i64 0) := (three_frm T8.1).1
  have x1_8 : w8.cell? ⟨g, 1, none⟩ = some (.int .i64 F) := (three_frm T8.1).2.1
  clear T8 B8 R8 hw8
  go_upto_region 17 with fail
  rw [← HW8.out]
  clear p8 z8 x0_7 x1_7 x0_8 x1_8
  have p0 : w8.cell? ⟨g + 1 + 1 + 1, 0, none⟩ = some (.slice Ax q cx) := cell_of_row _ (g + 1 + 1 + 1) 0 _ 28 _ HT8.out.2
  have p1 : w8.cell? ⟨g + 1 + 1 + 1, 1, none⟩ = some (.int .i64 0) := cell_of_row _ (g + 1 + 1 + 1) 1 _ 28 _ HT8.out.2
  have p2 : w8.cell? ⟨g + 1 + 1 + 1, 2, none⟩ = some (.int .i64 0) := cell_of_row _ (g + 1 + 1 + 1) 2 _ 28 _ HT8.out.2
  have p3 : w8.cell? ⟨g + 1 + 1 + 1, 3, none⟩ = some (.int .i64 0) := cell_of_row _ (g + 1 + 1 + 1) 3 _ 28 _ HT8.out.2
  have p4 : w8.cell? ⟨g + 1 + 1 + 1, 4, none⟩ = some (.int .i64 0) := cell_of_row _ (g + 1 + 1 + 1) 4 _ 28 _ HT8.out.2
  have p5 : w8.cell? ⟨g + 1 + 1 + 1, 5, none⟩ = some (.slice none 0 0) := cell_of_row _ (g + 1 + 1 + 1) 5 _ 28 _ HT8.out.2
  have p6 : w8.cell? ⟨g + 1 + 1 + 1, 6, none⟩ = some (.bool (bit F 0)) := cell_of_row _ (g + 1 + 1 + 1) 6 _ 28 _ HT8.out.2
  have p7 : w8.cell? ⟨g + 1 + 1 + 1, 7, none⟩ = some (.bool false) := cell_of_row _ (g + 1 + 1 + 1) 7 _ 28 _ HT8.out.2
  have p8 : w8.cell? ⟨g + 1 + 1 + 1, 8, none⟩ = some (.bool false) := cell_of_row _ (g + 1 + 1 + 1) 8 _ 28 _ HT8.out.2
  have r0 : w8.cell? ⟨g + 1, 0, none⟩ = some (.slice none 0 0) := cell_of_row _ (g + 1) 0 _ 28 _ HT8.out.1.2.1
  have r1 : w8.cell? ⟨g + 1, 1, none⟩ = some (.int .i64 0) := cell_of_row _ (g + 1) 1 _ 28 _ HT8.out.1.2.1
  have r2 : w8.cell? ⟨g + 1, 2, none⟩ = some (.int .i64 0) := cell_of_row _ (g + 1) 2 _ 28 _ HT8.out.1.2.1
  have r3 : w8.cell? ⟨g + 1, 3, none⟩ = some (.int .i64 0) := cell_of_row _ (g + 1) 3 _ 28 _ HT8.out.1.2.1
  have r4 : w8.cell? ⟨g + 1, 4, none⟩ = some (.int .i64 0) := cell_of_row _ (g + 1) 4 _ 28 _ HT8.out.1.2.1
  have r5 : w8.cell? ⟨g + 1, 5, none⟩ = some (.slice none 0 0) := cell_of_row _ (g + 1) 5 _ 28 _ HT8.out.1.2.1
  have r6 : w8.cell? ⟨g + 1, 6, none⟩ = some (.bool false) := cell_of_row _ (g + 1) 6 _ 28 _ HT8.out.1.2.1
  have r7 : w8.cell? ⟨g + 1, 7, none⟩ = some (.bool false) := cell_of_row _ (g + 1) 7 _ 28 _ HT8.out.1.2.1
  have r8 : w8.cell? ⟨g + 1, 8, none⟩ = some (.bool false) := cell_of_row _ (g + 1) 8 _ 28 _ HT8.out.1.2.1
  have t0 : w8.cell? ⟨g + 1 + 1, 0, none⟩ = some (.bool false) := cell_of_row _ (g + 1 + 1) 0 _ 30 _ HT8.out.1.2.2
  have t1 : w8.cell? ⟨g + 1 + 1, 1, none⟩ = some (.bool false) := cell_of_row _ (g + 1 + 1) 1 _ 30 _ HT8.out.1.2.2
  have t2 : w8.cell? ⟨g + 1 + 1, 2, none⟩ = some (.int .i64 0) := cell_of_row _ (g + 1 + 1) 2 _ 30 _ HT8.out.1.2.2
  obtain ⟨f0, f1, f2, f3, f4, f5, f6, f7, f8, u0, u1, u2⟩ := three_froz HT8.out.1
  have HN : Hid (PtPost w (⟨D, 0, 0, 0, 0, [], bit F 0, false, false⟩, noFlt) (.returned (.tuple #[.agg #[.slice Ax q cx, .int .i64 0, .int .i64 0, .int .i64 0, .int .i64 0, .slice none 0 0, .bool (bit F 0), .bool false, .bool false], .agg #[.bool false, .bool false, .int .i64 0]])) (stores w8 g (.slice Ax q cx) (.int .i64 0) (.int .i64 0) (.int .i64 0) (.int .i64 0) (.slice none 0 0) (.bool (bit F 0)) (.bool false) (.bool false) (.bool false) (.bool false) (.int .i64 0))) := Lib.hid (by
    have hl := HL.out
    have hr := HR8.out
    subst hl
    exact rd_data (P := ⟨D, 0, 0, 0, 0, [], bit F 0, false, false⟩) (A := Ax) (c := cx) (B := w1.heap.size) HG.out HB8.out rfl (by have := HSZ.out; omega) hr _ _ _ _ _ _ _ _ _ _ _ _)
  go_wp2
  simp only [jumpsTo]
  refine bodyPost_ret (v := .tuple #[.agg #[.slice Ax q cx, .int .i64 0, .int .i64 0, .int .i64 0, .int .i64 0, .slice none 0 0, .bool (bit F 0), .bool false, .bool false], .agg #[.bool false, .bool false, .int .i64 0]]) (by simp [results, Try.results17, go_sem, r0, r1, r2, r3, r4, r5, r6, r7, r8, t0, t1, t2]) rfl HN.out
set_option maxRecDepth 100000 in
set_option maxHeartbeats 4000000 in
theorem pctt0_c (F S : Int) (l : List Nat) (A : Option Addr) (n c : Nat) (w : World) (hs : S ≠ 0) (h3 : bit F 3 = true) (h0 : n = 0) :
    Calls Try.prog 17 #[.agg #[.int .i64 0, .int .i64 F, .int .i64 S, .slice A n c]] w (PtPost w (noPrt, ⟨true, true, 6⟩)) := by
  have k1 : (S == 0) = false := by rw [beq_eq_false_iff_ne]; exact hs
  have k2 : (S != 0) = true := by rw [bne_iff_ne]; exact hs
  clear hs
  have e8 : (bits .and .i64 F 8 == 0) = false := by
    have := and_off F 3 (by omega)
    rw [show ((2 ^ 3 : Nat) : Int) = 8 from rfl, h3] at this
    exact this
  have k0 : ((n : Int) == 0) = true := by rw [h0]; rfl
  clear h0 h3
  obtain ⟨T0, hbl, hsz⟩ := four_of w (⟨0, F, S, l⟩ : Frm) A n c
  obtain ⟨g, hg⟩ : ∃ g, g = w.heap.size := ⟨_, rfl⟩
  obtain ⟨w1, hw1⟩ : ∃ w1, w1 = w4of w (⟨0, F, S, l⟩ : Frm) A n c := ⟨_, rfl⟩
  rw [← hw1, ← hg] at T0
  rw [← hw1] at hbl hsz
  have hw1' : w1 = ((((w.alloc (.cells #[.int .i64 0, .int .i64 F, .int .i64 S, .slice A n c] 34)).alloc (.cells #[.slice none 0 0, .int .i64 0, .int .i64 0, .int .i64 0, .int .i64 0, .slice none 0 0, .bool false, .bool false, .bool false] 28)).alloc (.cells #[.bool false, .bool false, .int .i64 0] 30)).alloc (.cells #[.slice none 0 0, .int .i64 0, .int .i64 0, .int .i64 0, .int .i64 0, .slice none 0 0, .bool false, .bool false, .bool false] 28)) := hw1
  obtain ⟨x0, x1, x2, x3⟩ := three_frm T0.1
  simp only [] at x0 x1 x2 x3
  have HT := Lib.hid T0
  have HW := Lib.hid hw1'
  have HG := Lib.hid hg
  have HBL := Lib.hid hbl
  have HSZ : Hid (w1.heap.size = g + 1 + 1 + 1 + 1) := Lib.hid (by rw [hsz, hg])
  clear T0 hw1' hw1 hg hbl hsz
  go_enter Try.func17, Try.ntmps17
  go_wp2
  refine wp_scope_fuel 4 ?_
  go_upto_region 2 with fail
  rw [← HW.out, ← HG.out]
  go_wp2_with fail
  go_step3
  refine JF.go (k := 3) rfl ?_
  go_wp2_with fail
  with_reducible refine (pfault_any 6 w1).mono ?_
  rintro e w9 ⟨rfl, hb9⟩
  have T9 := HT.out.up hb9
  have r0 : w9.cell? ⟨g + 1, 0, none⟩ = some (.slice none 0 0) := cell_of_row _ (g + 1) 0 _ 28 _ T9.1.2.1
  have r1 : w9.cell? ⟨g + 1, 1, none⟩ = some (.int .i64 0) := cell_of_row _ (g + 1) 1 _ 28 _ T9.1.2.1
  have r2 : w9.cell? ⟨g + 1, 2, none⟩ = some (.int .i64 0) := cell_of_row _ (g + 1) 2 _ 28 _ T9.1.2.1
  have r3 : w9.cell? ⟨g + 1, 3, none⟩ = some (.int .i64 0) := cell_of_row _ (g + 1) 3 _ 28 _ T9.1.2.1
  have r4 : w9.cell? ⟨g + 1, 4, none⟩ = some (.int .i64 0) := cell_of_row _ (g + 1) 4 _ 28 _ T9.1.2.1
  have r5 : w9.cell? ⟨g + 1, 5, none⟩ = some (.slice none 0 0) := cell_of_row _ (g + 1) 5 _ 28 _ T9.1.2.1
  have r6 : w9.cell? ⟨g + 1, 6, none⟩ = some (.bool false) := cell_of_row _ (g + 1) 6 _ 28 _ T9.1.2.1
  have r7 : w9.cell? ⟨g + 1, 7, none⟩ = some (.bool false) := cell_of_row _ (g + 1) 7 _ 28 _ T9.1.2.1
  have r8 : w9.cell? ⟨g + 1, 8, none⟩ = some (.bool false) := cell_of_row _ (g + 1) 8 _ 28 _ T9.1.2.1
  have t0 : w9.cell? ⟨g + 1 + 1, 0, none⟩ = some (.bool false) := cell_of_row _ (g + 1 + 1) 0 _ 30 _ T9.1.2.2
  have t1 : w9.cell? ⟨g + 1 + 1, 1, none⟩ = some (.bool false) := cell_of_row _ (g + 1 + 1) 1 _ 30 _ T9.1.2.2
  have t2 : w9.cell? ⟨g + 1 + 1, 2, none⟩ = some (.int .i64 0) := cell_of_row _ (g + 1 + 1) 2 _ 30 _ T9.1.2.2
  obtain ⟨f0, f1, f2, f3, f4, f5, f6, f7, f8, u0, u1, u2⟩ := three_froz T9.1
  have HN : Hid (PtPost w (noPrt, ⟨true, true, 6⟩) (.returned (.tuple #[.agg #[.slice none 0 0, .int .i64 0, .int .i64 0, .int .i64 0, .int .i64 0, .slice none 0 0, .bool false, .bool false, .bool false], .agg #[.bool true, .bool true, .int .i64 6]])) (stores w9 g (.slice none 0 0) (.int .i64 0) (.int .i64 0) (.int .i64 0) (.int .i64 0) (.slice none 0 0) (.bool false) (.bool false) (.bool false) (.bool true) (.bool true) (.int .i64 6))) := Lib.hid (rd_bare HG.out (HBL.out.trans (hb9.mono HBL.out.size)) rfl rfl _ _ _ _ _ _ _ _ _ _ _ _)
  clear T9 hb9
  go_wp2
  simp only [jumpsTo]
  refine bodyPost_ret (v := .tuple #[.agg #[.slice none 0 0, .int .i64 0, .int .i64 0, .int .i64 0, .int .i64 0, .slice none 0 0, .bool false, .bool false, .bool false], .agg #[.bool true, .bool true, .int .i64 6]]) (by simp [results, Try.results17, go_sem, r0, r1, r2, r3, r4, r5, r6, r7, r8, t0, t1, t2]) rfl HN.out
set_option maxRecDepth 100000 in
set_option maxHeartbeats 4000000 in
theorem pctt0_d (F S : Int) (l : List Nat) (A : Option Addr) (n c : Nat) (w : World) (x : Nat) (r : List Nat) (hs : S ≠ 0) (hA : At .u8 w w.heap.size A l) (hb : ∀ x ∈ l, x < 256) (hl : l.length = n) (hc : A = none → c = 0) (hcl : n ≤ c) (hn : n ≤ 100000) (h3 : bit F 3 = true) (hx : l = x :: r) (h7 : r.length < x) :
    Calls Try.prog 17 #[.agg #[.int .i64 0, .int .i64 F, .int .i64 S, .slice A n c]] w (PtPost w (noPrt, ⟨true, true, 1⟩)) := by
  have k1 : (S == 0) = false := by rw [beq_eq_false_iff_ne]; exact hs
  have k2 : (S != 0) = true := by rw [bne_iff_ne]; exact hs
  clear hs
  have HL0 : Hid (l.length = n) := Lib.hid hl
  have e8 : (bits .and .i64 F 8 == 0) = false := by
    have := and_off F 3 (by omega)
    rw [show ((2 ^ 3 : Nat) : Int) = 8 from rfl, h3] at this
    exact this
  have hx2 : x < 256 := hb x (by rw [hx]; exact List.mem_cons_self)
  have hrl : r.length + 1 = n := by rw [← hl, hx]; rfl
  obtain ⟨b, o, rfl, hbB, hcs⟩ := hA.pos (by omega)
  have k0 : ((n : Int) == 0) = false := by rw [beq_eq_false_iff_ne]; omega
  have i0 : (0 : Int) < (n : Int) := by omega
  have HY : Hid (∀ W, Below w.heap.size w W → W.cell? ⟨b, o, none⟩ = some (.int .u8 (x : Int))) := Lib.hid (fun W h => by
    have := (h.cell (p := ⟨b, o + 0, none⟩) hbB).trans (hcs 0 (by omega))
    simpa [hx] using this)
  have wx : IntKind.i64.wrap (x : Int) = (x : Int) := i64_ofNat x (by omega)
  obtain ⟨P, hP⟩ : ∃ P, P = x + 1 := ⟨_, rfl⟩
  have ewp : IntKind.i64.wrap (1 + (x : Int)) = (P : Int) := by rw [show 1 + (x : Int) = (P : Int) by omega]; exact i64_ofNat P (by omega)
  obtain ⟨A1, hA1⟩ : ∃ A1, A1 = cutAt (some ⟨b, o, none⟩) c 1 := ⟨_, rfl⟩
  obtain ⟨n1, hn1⟩ : ∃ n1, n1 = n - 1 := ⟨_, rfl⟩
  obtain ⟨c1, hc1⟩ : ∃ c1, c1 = c - 1 := ⟨_, rfl⟩
  have hs1 := fun (W : World) => slice_l (some ⟨b, o, none⟩) n c 1 n1 W (by omega) hn1.symm
  rw [← hA1, ← hc1, show ((1 : Nat) : Int) = 1 from rfl] at hs1
  have i1 : (1 : Int) ≤ (n : Int) := by omega
  have hr1 : r.length = n1 := by omega
  have AT1 : At .u8 w w.heap.size A1 r := by
    have := hA.drop (q := 1) (c := c) (by omega)
    rw [hA1]
    simpa [hx] using this
  have hc1' : A1 = none → c1 = 0 := fun h => by rw [hA1] at h; have := cutAt_none hc h; omega
  have k7 : (n1 : Int) < (x : Int) := by omega
  clear hA hl hc hcl hn hb h3 hx hx2 hcs hbB hP hA1 hn1 hrl h7 AT1 hc1' hc1 hr1 
  obtain ⟨T0, hbl, hsz⟩ := four_of w (⟨0, F, S, l⟩ : Frm) (some ⟨b, o, none⟩) n c
  obtain ⟨g, hg⟩ : ∃ g, g = w.heap.size := ⟨_, rfl⟩
  obtain ⟨w1, hw1⟩ : ∃ w1, w1 = w4of w (⟨0, F, S, l⟩ : Frm) (some ⟨b, o, none⟩) n c := ⟨_, rfl⟩
  rw [← hw1, ← hg] at T0
  rw [← hw1] at hbl hsz
  have hw1' : w1 = ((((w.alloc (.cells #[.int .i64 0, .int .i64 F, .int .i64 S, .slice (some ⟨b, o, none⟩) n c] 34)).alloc (.cells #[.slice none 0 0, .int .i64 0, .int .i64 0, .int .i64 0, .int .i64 0, .slice none 0 0, .bool false, .bool false, .bool false] 28)).alloc (.cells #[.bool false, .bool false, .int .i64 0] 30)).alloc (.cells #[.slice none 0 0, .int .i64 0, .int .i64 0, .int .i64 0, .int .i64 0, .slice none 0 0, .bool false, .bool false, .bool false] 28)) := hw1
  obtain ⟨x0, x1, x2, x3⟩ := three_frm T0.1
  simp only [] at x0 x1 x2 x3
  have HT := Lib.hid T0
  have HW := Lib.hid hw1'
  have HG := Lib.hid hg
  have HBL := Lib.hid hbl
  have HSZ : Hid (w1.heap.size = g + 1 + 1 + 1 + 1) := Lib.hid (by rw [hsz, hg])
  clear T0 hw1' hw1 hg hbl hsz
  go_enter Try.func17, Try.ntmps17
  go_wp2
  refine wp_scope_fuel 4 ?_
  go_upto_region 2 with fail
  rw [← HW.out, ← HG.out]
  have y0 := HY.out w1 HBL.out
  have p1 : w1.cell? ⟨g + 1 + 1 + 1, 1, none⟩ = some (.int .i64 0) := cell_of_row _ (g + 1 + 1 + 1) 1 _ 28 _ HT.out.2
  have z1 : w1.frozen? ⟨g + 1 + 1 + 1, 1, none⟩ = false := frozen_of_row _ (g + 1 + 1 + 1) 1 _ 28 HT.out.2
  obtain ⟨w2, hw2⟩ : ∃ w2, w2 = w1.setCell ⟨g + 1 + 1 + 1, 1, none⟩ (.int .i64 (P : Int)) := ⟨_, rfl⟩
  have T2 := HT.out.set 1 (.int .i64 (P : Int))
  have B2 : Below w.heap.size w w2 := by rw [hw2]; exact HBL.out.setCell (p := ⟨g + 1 + 1 + 1, 1, none⟩) (show w.heap.size ≤ g + 1 + 1 + 1 by have := HG.out; omega) _
  rw [← hw2] at T2
  have HT2 := Lib.hid T2
  have HB2 := Lib.hid B2
  have HW2 := Lib.hid hw2
  obtain ⟨x0', x1', x2', x3'⟩ := three_frm T2.1
  simp only [] at x0' x1' x2' x3'
  have hs2 : w2.heap.size = g + 1 + 1 + 1 + 1 := by rw [hw2]; simp only [World.setCell]; have := HSZ.out; simpa using this
  have HS2 := Lib.hid hs2
  clear T2 B2 hw2 hs2
  go_upto_region 9 with fail
  rw [← HW2.out]
  clear p1 z1 y0 x0 x1 x2 x3
  go_wp2_with fail
  go_step3
  go_wp2_with fail
  go_step3
  refine JF.go (k := 3) rfl ?_
  go_wp2_with fail
  go_step3
  refine JF.go (k := 2) rfl ?_
  go_wp2_with fail
  with_reducible refine (pfault_any 1 w2).mono ?_
  rintro e w9 ⟨rfl, hb9⟩
  have T9 := HT2.out.up hb9
  have r0 : w9.cell? ⟨g + 1, 0, none⟩ = some (.slice none 0 0) := cell_of_row _ (g + 1) 0 _ 28 _ T9.1.2.1
  have r1 : w9.cell? ⟨g + 1, 1, none⟩ = some (.int .i64 0) := cell_of_row _ (g + 1) 1 _ 28 _ T9.1.2.1
  have r2 : w9.cell? ⟨g + 1, 2, none⟩ = some (.int .i64 0) := cell_of_row _ (g + 1) 2 _ 28 _ T9.1.2.1
  have r3 : w9.cell? ⟨g + 1, 3, none⟩ = some (.int .i64 0) := cell_of_row _ (g + 1) 3 _ 28 _ T9.1.2.1
  have r4 : w9.cell? ⟨g + 1, 4, none⟩ = some (.int .i64 0) := cell_of_row _ (g + 1) 4 _ 28 _ T9.1.2.1
  have r5 : w9.cell? ⟨g + 1, 5, none⟩ = some (.slice none 0 0) := cell_of_row _ (g + 1) 5 _ 28 _ T9.1.2.1
  have r6 : w9.cell? ⟨g + 1, 6, none⟩ = some (.bool false) := cell_of_row _ (g + 1) 6 _ 28 _ T9.1.2.1
  have r7 : w9.cell? ⟨g + 1, 7, none⟩ = some (.bool false) := cell_of_row _ (g + 1) 7 _ 28 _ T9.1.2.1
  have r8 : w9.cell? ⟨g + 1, 8, none⟩ = some (.bool false) := cell_of_row _ (g + 1) 8 _ 28 _ T9.1.2.1
  have t0 : w9.cell? ⟨g + 1 + 1, 0, none⟩ = some (.bool false) := cell_of_row _ (g + 1 + 1) 0 _ 30 _ T9.1.2.2
  have t1 : w9.cell? ⟨g + 1 + 1, 1, none⟩ = some (.bool false) := cell_of_row _ (g + 1 + 1) 1 _ 30 _ T9.1.2.2
  have t2 : w9.cell? ⟨g + 1 + 1, 2, none⟩ = some (.int .i64 0) := cell_of_row _ (g + 1 + 1) 2 _ 30 _ T9.1.2.2
  obtain ⟨f0, f1, f2, f3, f4, f5, f6, f7, f8, u0, u1, u2⟩ := three_froz T9.1
  have HN : Hid (PtPost w (noPrt, ⟨true, true, 1⟩) (.returned (.tuple #[.agg #[.slice none 0 0, .int .i64 0, .int .i64 0, .int .i64 0, .int .i64 0, .slice none 0 0, .bool false, .bool false, .bool false], .agg #[.bool true, .bool true, .int .i64 1]])) (stores w9 g (.slice none 0 0) (.int .i64 0) (.int .i64 0) (.int .i64 0) (.int .i64 0) (.slice none 0 0) (.bool false) (.bool false) (.bool false) (.bool true) (.bool true) (.int .i64 1))) := Lib.hid (rd_bare HG.out (HB2.out.trans (hb9.mono HB2.out.size)) rfl rfl _ _ _ _ _ _ _ _ _ _ _ _)
  clear T9 hb9
  go_wp2
  simp only [jumpsTo]
  refine bodyPost_ret (v := .tuple #[.agg #[.slice none 0 0, .int .i64 0, .int .i64 0, .int .i64 0, .int .i64 0, .slice none 0 0, .bool false, .bool false, .bool false], .agg #[.bool true, .bool true, .int .i64 1]]) (by simp [results, Try.results17, go_sem, r0, r1, r2, r3, r4, r5, r6, r7, r8, t0, t1, t2]) rfl HN.out
set_option maxRecDepth 100000 in
set_option maxHeartbeats 4000000 in
theorem pctt0_e (F S : Int) (l : List Nat) (A : Option Addr) (n c : Nat) (w : World) (x : Nat) (r : List Nat) (hs : S ≠ 0) (hA : At .u8 w w.heap.size A l) (hb : ∀ x ∈ l, x < 256) (hl : l.length = n) (hc : A = none → c = 0) (hcl : n ≤ c) (hn : n ≤ 100000) (h3 : bit F 3 = true) (hx : l = x :: r) (h7 : x ≤ r.length) :
    Calls Try.prog 17 #[.agg #[.int .i64 0, .int .i64 F, .int .i64 S, .slice A n c]] w (PtPost w (⟨r.take (r.length - x), x + 1, 0, 0, 0, [], bit F 0, false, false⟩, noFlt)) := by
  have k1 : (S == 0) = false := by rw [beq_eq_false_iff_ne]; exact hs
  have k2 : (S != 0) = true := by rw [bne_iff_ne]; exact hs
  clear hs
  have HL0 : Hid (l.length = n) := Lib.hid hl
  have e8 : (bits .and .i64 F 8 == 0) = false := by
    have := and_off F 3 (by omega)
    rw [show ((2 ^ 3 : Nat) : Int) = 8 from rfl, h3] at this
    exact this
  have hx2 : x < 256 := hb x (by rw [hx]; exact List.mem_cons_self)
  have hrl : r.length + 1 = n := by rw [← hl, hx]; rfl
  obtain ⟨b, o, rfl, hbB, hcs⟩ := hA.pos (by omega)
  have k0 : ((n : Int) == 0) = false := by rw [beq_eq_false_iff_ne]; omega
  have i0 : (0 : Int) < (n : Int) := by omega
  have HY : Hid (∀ W, Below w.heap.size w W → W.cell? ⟨b, o, none⟩ = some (.int .u8 (x : Int))) := Lib.hid (fun W h => by
    have := (h.cell (p := ⟨b, o + 0, none⟩) hbB).trans (hcs 0 (by omega))
    simpa [hx] using this)
  have wx : IntKind.i64.wrap (x : Int) = (x : Int) := i64_ofNat x (by omega)
  obtain ⟨P, hP⟩ : ∃ P, P = x + 1 := ⟨_, rfl⟩
  have ewp : IntKind.i64.wrap (1 + (x : Int)) = (P : Int) := by rw [show 1 + (x : Int) = (P : Int) by omega]; exact i64_ofNat P (by omega)
  rw [← hP]
  obtain ⟨A1, hA1⟩ : ∃ A1, A1 = cutAt (some ⟨b, o, none⟩) c 1 := ⟨_, rfl⟩
  obtain ⟨n1, hn1⟩ : ∃ n1, n1 = n - 1 := ⟨_, rfl⟩
  obtain ⟨c1, hc1⟩ : ∃ c1, c1 = c - 1 := ⟨_, rfl⟩
  have hs1 := fun (W : World) => slice_l (some ⟨b, o, none⟩) n c 1 n1 W (by omega) hn1.symm
  rw [← hA1, ← hc1, show ((1 : Nat) : Int) = 1 from rfl] at hs1
  have i1 : (1 : Int) ≤ (n : Int) := by omega
  have hr1 : r.length = n1 := by omega
  have AT1 : At .u8 w w.heap.size A1 r := by
    have := hA.drop (q := 1) (c := c) (by omega)
    rw [hA1]
    simpa [hx] using this
  have hc1' : A1 = none → c1 = 0 := fun h => by rw [hA1] at h; have := cutAt_none hc h; omega
  have k7 : ¬ (n1 : Int) < (x : Int) := by omega
  obtain ⟨q, hq⟩ : ∃ q, q = n1 - x := ⟨_, rfl⟩
  have ewq : IntKind.i64.wrap ((n1 : Int) - (x : Int)) = (q : Int) := by rw [show (n1 : Int) - (x : Int) = (q : Int) by omega]; exact i64_ofNat q (by omega)
  obtain ⟨A3, hA3⟩ : ∃ A3, A3 = cutAt A1 c1 0 := ⟨_, rfl⟩
  have hsq := fun (W : World) => slice_h A1 n1 c1 q W (by omega)
  rw [← hA3] at hsq
  have iq0 : (0 : Int) ≤ (q : Int) := by omega
  have iqc : (q : Int) ≤ (c1 : Int) := by omega
  obtain ⟨D, hD⟩ : ∃ D, D = r.take q := ⟨_, rfl⟩
  have HCP : Hid (∀ W, Below w.heap.size w W → Calls Try.prog 28 #[.slice A3 q c1] W (RowPost W.heap.size W D)) := Lib.hid (fun W hb' => by
    rw [hA3, hD]
    exact bclone_any _ (r.take q) q c1 W ((AT1.up hb').take (by omega)) (by rw [List.length_take]; omega) (fun h => by have := cutAt_none hc1' h; omega) (by omega))
  have HL : Hid (D.length = q) := Lib.hid (by rw [hD, List.length_take]; omega)
  have HD : Hid (r.take (r.length - x) = D) := Lib.hid (by rw [hD, hr1, hq])
  rw [HD.out]
  have e1 : (bits .and .i64 F 1 != 0) = bit F 0 := by
    have := and_on F 0 (by omega)
    rw [show ((2 ^ 0 : Nat) : Int) = 1 from rfl] at this
    exact this
  have e4 : (bits .and .i64 F 4 != 0) = bit F 2 := by
    have := and_on F 2 (by omega)
    rw [show ((2 ^ 2 : Nat) : Int) = 4 from rfl] at this
    exact this
  clear hA hl hc hcl hn hb h3 hx hx2 hcs hbB hP hA1 hn1 hrl h7 hA3 hq hD AT1 hc1' hc1 hr1 
  obtain ⟨T0, hbl, hsz⟩ := four_of w (⟨0, F, S, l⟩ : Frm) (some ⟨b, o, none⟩) n c
  obtain ⟨g, hg⟩ : ∃ g, g = w.heap.size := ⟨_, rfl⟩
  obtain ⟨w1, hw1⟩ : ∃ w1, w1 = w4of w (⟨0, F, S, l⟩ : Frm) (some ⟨b, o, none⟩) n c := ⟨_, rfl⟩
  rw [← hw1, ← hg] at T0
  rw [← hw1] at hbl hsz
  have hw1' : w1 = ((((w.alloc (.cells #[.int .i64 0, .int .i64 F, .int .i64 S, .slice (some ⟨b, o, none⟩) n c] 34)).alloc (.cells #[.slice none 0 0, .int .i64 0, .int .i64 0, .int .i64 0, .int .i64 0, .slice none 0 0, .bool false, .bool false, .bool false] 28)).alloc (.cells #[.bool false, .bool false, .int .i64 0] 30)).alloc (.cells #[.slice none 0 0, .int .i64 0, .int .i64 0, .int .i64 0, .int .i64 0, .slice none 0 0, .bool false, .bool false, .bool false] 28)) := hw1
  obtain ⟨x0, x1, x2, x3⟩ := three_frm T0.1
  simp only [] at x0 x1 x2 x3
  have HT := Lib.hid T0
  have HW := Lib.hid hw1'
  have HG := Lib.hid hg
  have HBL := Lib.hid hbl
  have HSZ : Hid (w1.heap.size = g + 1 + 1 + 1 + 1) := Lib.hid (by rw [hsz, hg])
  clear T0 hw1' hw1 hg hbl hsz
  go_enter Try.func17, Try.ntmps17
  go_wp2
  refine wp_scope_fuel 4 ?_
  go_upto_region 2 with fail
  rw [← HW.out, ← HG.out]
  have y0 := HY.out w1 HBL.out
  have p1 : w1.cell? ⟨g + 1 + 1 + 1, 1, none⟩ = some (.int .i64 0) := cell_of_row _ (g + 1 + 1 + 1) 1 _ 28 _ HT.out.2
  have z1 : w1.frozen? ⟨g + 1 + 1 + 1, 1, none⟩ = false := frozen_of_row _ (g + 1 + 1 + 1) 1 _ 28 HT.out.2
  obtain ⟨w2, hw2⟩ : ∃ w2, w2 = w1.setCell ⟨g + 1 + 1 + 1, 1, none⟩ (.int .i64 (P : Int)) := ⟨_, rfl⟩
  have T2 := HT.out.set 1 (.int .i64 (P : Int))
  have B2 : Below w.heap.size w w2 := by rw [hw2]; exact HBL.out.setCell (p := ⟨g + 1 + 1 + 1, 1, none⟩) (show w.heap.size ≤ g + 1 + 1 + 1 by have := HG.out; omega) _
  rw [← hw2] at T2
  have HT2 := Lib.hid T2
  have HB2 := Lib.hid B2
  have HW2 := Lib.hid hw2
  obtain ⟨x0', x1', x2', x3'⟩ := three_frm T2.1
  simp only [] at x0' x1' x2' x3'
  have hs2 : w2.heap.size = g + 1 + 1 + 1 + 1 := by rw [hw2]; simp only [World.setCell]; have := HSZ.out; simpa using this
  have HS2 := Lib.hid hs2
  clear T2 B2 hw2 hs2
  go_upto_region 9 with fail
  rw [← HW2.out]
  clear p1 z1 y0 x0 x1 x2 x3
  go_wp2_with fail
  go_step3
  go_wp2_with fail
  go_step3
  refine JF.go (k := 3) rfl ?_
  go_wp2_with fail
  go_wp2_with fail
  with_reducible refine (HCP.out w2 HB2.out).mono ?_
  rintro e w5 ⟨v5, rfl, hr5, hb5⟩
  obtain ⟨Ax, cx, hv5⟩ := own_shape hr5
  rw [HL.out] at hv5 hr5
  subst hv5
  have T5 := HT2.out.up hb5
  have hbw5 := HB2.out.trans (hb5.mono HB2.out.size)
  have HT5 := Lib.hid T5
  have HB5 := Lib.hid hbw5
  have HR5 := Lib.hid hr5
  have p0 : w5.cell? ⟨g + 1 + 1 + 1, 0, none⟩ = some (.slice none 0 0) := cell_of_row _ (g + 1 + 1 + 1) 0 _ 28 _ HT5.out.2
  have z0 : w5.frozen? ⟨g + 1 + 1 + 1, 0, none⟩ = false := frozen_of_row _ (g + 1 + 1 + 1) 0 _ 28 HT5.out.2
  clear hb5 T5 hbw5 hr5
  obtain ⟨w6, hw6⟩ : ∃ w6, w6 = w5.setCell ⟨g + 1 + 1 + 1, 0, none⟩ (.slice Ax q cx) := ⟨_, rfl⟩
  have T6 := HT5.out.set 0 (.slice Ax q cx)
  have B6 : Below w.heap.size w w6 := by rw [hw6]; exact HB5.out.setCell (p := ⟨g + 1 + 1 + 1, 0, none⟩) (show w.heap.size ≤ g + 1 + 1 + 1 by have := HG.out; omega) _
  rw [← hw6] at T6
  have R6 : w6.ownsRow w2.heap.size 5 1 (.slice Ax q cx) q (cn .u8 D) := by
    rw [hw6]
    exact row_keeps HR5.out ((Keeps.refl (fun k => k = g + 1 + 1 + 1) w5).setCell (S := fun k => k = g + 1 + 1 + 1) (p := ⟨g + 1 + 1 + 1, 0, none⟩) rfl _) (fun k hk e => by have := own_block HR5.out k hk; have := HS2.out; omega)
  have HT6 := Lib.hid T6
  have HB6 := Lib.hid B6
  have HR6 := Lib.hid R6
  have HW6 := Lib.hid hw6
  have x0_6 : w6.cell? ⟨g, 0, none⟩ = some (.int .i64 0) := (three_frm T6.1).1
  have x1_6 : w6.cell? ⟨g, 1, none⟩ = some (.int .i64 F) := (three_frm T6.1).2.1
  clear T6 B6 R6 hw6
  go_upto_region 15 with fail
  rw [← HW6.out]
  clear p0 z0
  have p6 : w6.cell? ⟨g + 1 + 1 + 1, 6, none⟩ = some (.bool false) := cell_of_row _ (g + 1 + 1 + 1) 6 _ 28 _ HT6.out.2
  have z6 : w6.frozen? ⟨g + 1 + 1 + 1, 6, none⟩ = false := frozen_of_row _ (g + 1 + 1 + 1) 6 _ 28 HT6.out.2
  obtain ⟨w7, hw7⟩ : ∃ w7, w7 = w6.setCell ⟨g + 1 + 1 + 1, 6, none⟩ (.bool (bit F 0)) := ⟨_, rfl⟩
  have T7 := HT6.out.set 6 (.bool (bit F 0))
  have B7 : Below w.heap.size w w7 := by rw [hw7]; exact HB6.out.setCell (p := ⟨g + 1 + 1 + 1, 6, none⟩) (show w.heap.size ≤ g + 1 + 1 + 1 by have := HG.out; omega) _
  rw [← hw7] at T7
  have R7 : w7.ownsRow w2.heap.size 5 1 (.slice Ax q cx) q (cn .u8 D) := by
    rw [hw7]
    exact row_keeps HR6.out ((Keeps.refl (fun k => k = g + 1 + 1 + 1) w6).setCell (S := fun k => k = g + 1 + 1 + 1) (p := ⟨g + 1 + 1 + 1, 6, none⟩) rfl _) (fun k hk e => by have := own_block HR6.out k hk; have := HS2.out; omega)
  have HT7 := Lib.hid T7
  have HB7 := Lib.hid B7
  have HR7 := Lib.hid R7
  have HW7 := Lib.hid hw7
  have x0_7 : w7.cell? ⟨g, 0, none⟩ = some (.int .i64 0) := (three_frm T7.1).1
  have x1_7 : w7.cell? ⟨g, 1, none⟩ = some (.int .i64 F) := (three_frm T7.1).2.1
  clear T7 B7 R7 hw7
  go_upto_region 16 with fail
  rw [← HW7.out]
  clear p6 z6 x0_6 x1_6
  have p8 : w7.cell? ⟨g + 1 + 1 + 1, 8, none⟩ = some (.bool false) := cell_of_row _ (g + 1 + 1 + 1) 8 _ 28 _ HT7.out.2
  have z8 : w7.frozen? ⟨g + 1 + 1 + 1, 8, none⟩ = false := frozen_of_row _ (g + 1 + 1 + 1) 8 _ 28 HT7.out.2
  obtain ⟨w8, hw8⟩ : ∃ w8, w8 = w7.setCell ⟨g + 1 + 1 + 1, 8, none⟩ (.bool false) := ⟨_, rfl⟩
  have T8 := HT7.out.set 8 (.bool false)
  have B8 : Below w.heap.size w w8 := by rw [hw8]; exact HB7.out.setCell (p := ⟨g + 1 + 1 + 1, 8, none⟩) (show w.heap.size ≤ g + 1 + 1 + 1 by have := HG.out; omega) _
  rw [← hw8] at T8
  have R8 : w8.ownsRow w2.heap.size 5 1 (.slice Ax q cx) q (cn .u8 D) := by
    rw [hw8]
    exact row_keeps HR7.out ((Keeps.refl (fun k => k = g + 1 + 1 + 1) w7).setCell (S := fun k => k = g + 1 + 1 + 1) (p := ⟨g + 1 + 1 + 1, 8, none⟩) rfl _) (fun k hk e => by have := own_block HR7.out k hk; have := HS2.out; omega)
  have HT8 := Lib.hid T8
  have HB8 := Lib.hid B8
  have HR8 := Lib.hid R8
  have HW8 := Lib.hid hw8
  have x0_8 : w8.cell? ⟨g, 0, none⟩ = some (.int .i64 0) := (three_frm T8.1).1
  have x1_8 : w8.cell? ⟨g, 1, none⟩ = some (.int .i64 F) := (three_frm T8.1).2.1
  clear T8 B8 R8 hw8
  go_upto_region 17 with fail
  rw [← HW8.out]
  clear p8 z8 x0_7 x1_7 x0_8 x1_8
  have p0 : w8.cell? ⟨g + 1 + 1 + 1, 0, none⟩ = some (.slice Ax q cx) := cell_of_row _ (g + 1 + 1 + 1) 0 _ 28 _ HT8.out.2
  have p1 : w8.cell? ⟨g + 1 + 1 + 1, 1, none⟩ = some (.int .i64 (P : Int)) := cell_of_row _ (g + 1 + 1 + 1) 1 _ 28 _ HT8.out.2
  have p2 : w8.cell? ⟨g + 1 + 1 + 1, 2, none⟩ = some (.int .i64 0) := cell_of_row _ (g + 1 + 1 + 1) 2 _ 28 _ HT8.out.2
  have p3 : w8.cell? ⟨g + 1 + 1 + 1, 3, none⟩ = some (.int .i64 0) := cell_of_row _ (g + 1 + 1 + 1) 3 _ 28 _ HT8.out.2
  have p4 : w8.cell? ⟨g + 1 + 1 + 1, 4, none⟩ = some (.int .i64 0) := cell_of_row _ (g + 1 + 1 + 1) 4 _ 28 _ HT8.out.2
  have p5 : w8.cell? ⟨g + 1 + 1 + 1, 5, none⟩ = some (.slice none 0 0) := cell_of_row _ (g + 1 + 1 + 1) 5 _ 28 _ HT8.out.2
  have p6 : w8.cell? ⟨g + 1 + 1 + 1, 6, none⟩ = some (.bool (bit F 0)) := cell_of_row _ (g + 1 + 1 + 1) 6 _ 28 _ HT8.out.2
  have p7 : w8.cell? ⟨g + 1 + 1 + 1, 7, none⟩ = some (.bool false) := cell_of_row _ (g + 1 + 1 + 1) 7 _ 28 _ HT8.out.2
  have p8 : w8.cell? ⟨g + 1 + 1 + 1, 8, none⟩ = some (.bool false) := cell_of_row _ (g + 1 + 1 + 1) 8 _ 28 _ HT8.out.2
  have r0 : w8.cell? ⟨g + 1, 0, none⟩ = some (.slice none 0 0) := cell_of_row _ (g + 1) 0 _ 28 _ HT8.out.1.2.1
  have r1 : w8.cell? ⟨g + 1, 1, none⟩ = some (.int .i64 0) := cell_of_row _ (g + 1) 1 _ 28 _ HT8.out.1.2.1
  have r2 : w8.cell? ⟨g + 1, 2, none⟩ = some (.int .i64 0) := cell_of_row _ (g + 1) 2 _ 28 _ HT8.out.1.2.1
  have r3 : w8.cell? ⟨g + 1, 3, none⟩ = some (.int .i64 0) := cell_of_row _ (g + 1) 3 _ 28 _ HT8.out.1.2.1
  have r4 : w8.cell? ⟨g + 1, 4, none⟩ = some (.int .i64 0) := cell_of_row _ (g + 1) 4 _ 28 _ HT8.out.1.2.1
  have r5 : w8.cell? ⟨g + 1, 5, none⟩ = some (.slice none 0 0) := cell_of_row _ (g + 1) 5 _ 28 _ HT8.out.1.2.1
  have r6 : w8.cell? ⟨g + 1, 6, none⟩ = some (.bool false) := cell_of_row _ (g + 1) 6 _ 28 _ HT8.out.1.2.1
  have r7 : w8.cell? ⟨g + 1, 7, none⟩ = some (.bool false) := cell_of_row _ (g + 1) 7 _ 28 _ HT8.out.1.2.1
  have r8 : w8.cell? ⟨g + 1, 8, none⟩ = some (.bool false) := cell_of_row _ (g + 1) 8 _ 28 _ HT8.out.1.2.1
  have t0 : w8.cell? ⟨g + 1 + 1, 0, none⟩ = some (.bool false) := cell_of_row _ (g + 1 + 1) 0 _ 30 _ HT8.out.1.2.2
  have t1 : w8.cell? ⟨g + 1 + 1, 1, none⟩ = some (.bool false) := cell_of_row _ (g + 1 + 1) 1 _ 30 _ HT8.out.1.2.2
  have t2 : w8.cell? ⟨g + 1 + 1, 2, none⟩ = some (.int .i64 0) := cell_of_row _ (g + 1 + 1) 2 _ 30 _ HT8.out.1.2.2
  obtain ⟨f0, f1, f2, f3, f4, f5, f6, f7, f8, u0, u1, u2⟩ := three_froz HT8.out.1
  have HN : Hid (PtPost w (⟨D, P, 0, 0, 0, [], bit F 0, false, false⟩, noFlt) (.returned (.tuple #[.agg #[.slice Ax q cx, .int .i64 (P : Int), .int .i64 0, .int .i64 0, .int .i64 0, .slice none 0 0, .bool (bit F 0), .bool false, .bool false], .agg #[.bool false, .bool false, .int .i64 0]])) (stores w8 g (.slice Ax q cx) (.int .i64 (P : Int)) (.int .i64 0) (.int .i64 0) (.int .i64 0) (.slice none 0 0) (.bool (bit F 0)) (.bool false) (.bool false) (.bool false) (.bool false) (.int .i64 0))) := Lib.hid (by
    have hl := HL.out
    have hr := HR8.out
    subst hl
    exact rd_data (P := ⟨D, P, 0, 0, 0, [], bit F 0, false, false⟩) (A := Ax) (c := cx) (B := w2.heap.size) HG.out HB8.out rfl (by have := HS2.out; omega) hr _ _ _ _ _ _ _ _ _ _ _ _)
  go_wp2
  simp only [jumpsTo]
  refine bodyPost_ret (v := .tuple #[.agg #[.slice Ax q cx, .int .i64 (P : Int), .int .i64 0, .int .i64 0, .int .i64 0, .slice none 0 0, .bool (bit F 0), .bool false, .bool false], .agg #[.bool false, .bool false, .int .i64 0]]) (by simp [results, Try.results17, go_sem, r0, r1, r2, r3, r4, r5, r6, r7, r8, t0, t1, t2]) rfl HN.out
end Go.Proofs.Ytelbldhnlmggiaa
