/- The walk of SetsEach. -/
import Derived.Test.YtkjdjicchmfljaaZFew
namespace Go.Proofs.Ytkjdjicchmfljaa
open Go.RowKit Zs

theorem atS_one (w : World) (i v : Int) : AtS (w.alloc (.cells #[.int .i64 i, .int .i64 v] 33)) (w.alloc (.cells #[.int .i64 i, .int .i64 v] 33)).heap.size (some ⟨w.heap.size, 0, none⟩) [(i, v)] ∧ Below w.heap.size w (w.alloc (.cells #[.int .i64 i, .int .i64 v] 33)) := by
  refine ⟨fun _ => ⟨w.heap.size, 0, rfl, by simp, fun k hk => ?_⟩, (Below.refl _ _).alloc (Nat.le_refl _) _⟩
  obtain rfl : k = 0 := by simpa using hk
  exact ⟨cell_of_row _ w.heap.size 0 _ 33 _ (heap_alloc_new w _), cell_of_row _ w.heap.size 1 _ 33 _ (heap_alloc_new w _)⟩
namespace setsEach
set_option maxRecDepth 100000 in
set_option maxHeartbeats 4000000 in
theorem e1 (v : Int) (w : World) : Calls Try.prog 5 #[.int .i64 1, .int .i64 v] w (YesZ w) := by
  have HFST := Lib.hid fun (W : World) => first13_any W
  have HFI := Lib.hid fun (W : World) => zfirst_is W
  obtain ⟨m, hm⟩ : ∃ m, m = cap v := ⟨_, rfl⟩
  have om : (if 2147483647 < v then 2147483647 else v) = m := hm.symm
  have hap : apply firstSt [(1, v)] = (⟨m, 1, 2147483647, 65535, 16384, 2147483647⟩, noFlt) := by
    simp [apply, one, firstSt, noFlt, hm]
  have HAP : Hid (∀ (A : Option Addr) (W : World), AtS W W.heap.size A [(1, v)] → Calls Try.prog 8 #[.agg #[.int .i64 4096, .int .i64 1, .int .i64 2147483647, .int .i64 65535, .int .i64 16384, .int .i64 2147483647], .slice A 1 1] W fun e w' => e = .returned (.tuple #[.agg #[.int .i64 m, .int .i64 1, .int .i64 2147483647, .int .i64 65535, .int .i64 16384, .int .i64 2147483647], .agg #[.bool false, .bool false, .int .i64 0]]) ∧ Below W.heap.size W w') := Lib.hid (fun A W h => by
    have := zapply_f firstSt A [(1, v)] 1 1 W h rfl (by omega)
    rw [hap] at this
    exact this)
  clear hap hm
  go_enter Try.func5, Try.ntmps5
  have HB0 := Lib.hid (Below.refl w.heap.size w)
  go_wp2_with fail
  with_reducible refine (HFST.out w).mono ?_
  rintro e w1 ⟨rfl, hb1⟩
  have HB1 := Lib.hid (HB0.out.trans (hb1.mono HB0.out.size))
  clear hb1
  go_wp2_with fail
  with_reducible refine (HFI.out w1).mono ?_
  rintro e w2 ⟨rfl, hb2⟩
  have HB2 := Lib.hid (HB1.out.trans (hb2.mono HB1.out.size))
  clear hb2
  obtain ⟨hat, hb3⟩ := atS_one w2 (1) v
  have HAT := Lib.hid hat
  have HB3 := Lib.hid (HB2.out.trans (hb3.mono HB2.out.size))
  clear hat hb3
  go_wp2_with fail
  with_reducible refine (HAP.out _ _ HAT.out).mono ?_
  rintro e w4 ⟨rfl, hb4⟩
  have HB4 := Lib.hid (HB3.out.trans (hb4.mono HB3.out.size))
  obtain ⟨hk, hb5⟩ := kz_of w4 ⟨m, 1, 2147483647, 65535, 16384, 2147483647⟩ noFlt
  obtain ⟨w5, hw5⟩ : ∃ x, x = keptZ w4 ⟨m, 1, 2147483647, 65535, 16384, 2147483647⟩ noFlt := ⟨_, rfl⟩
  rw [← hw5] at hk hb5
  have hw5' : w5 = (w4.alloc (.cells #[.int .i64 m, .int .i64 1, .int .i64 2147483647, .int .i64 65535, .int .i64 16384, .int .i64 2147483647] 23)).alloc (.cells #[.bool false, .bool false, .int .i64 0] 27) := hw5
  have HB5 := Lib.hid (HB4.out.trans (hb5.mono HB4.out.size))
  have HW5 := Lib.hid hw5'
  obtain ⟨g, hg⟩ : ∃ g, g = w4.heap.size := ⟨_, rfl⟩
  rw [← hg] at hk
  have HG := Lib.hid hg
  have HK5 := Lib.hid hk
  clear hb4 hb5 hw5 hw5' hg hk
  go_upto_region 4 with fail
  rw [← HW5.out, ← HG.out]
  go_wp2_with fail
  with_reducible refine (HFI.out w5).mono ?_
  rintro e w6 ⟨rfl, hb6⟩
  have HB6 := Lib.hid (HB5.out.trans (hb6.mono HB5.out.size))
  have HK6 := Lib.hid (HK5.out.up hb6)
  obtain ⟨w7, hw7⟩ : ∃ x, x = w6.alloc (.cells #[.int .i64 4096, .int .i64 1, .int .i64 2147483647, .int .i64 65535, .int .i64 16384, .int .i64 2147483647] 23) := ⟨_, rfl⟩
  have hr7 : w7.heap[w6.heap.size]? = some (.cells #[.int .i64 4096, .int .i64 1, .int .i64 2147483647, .int .i64 65535, .int .i64 16384, .int .i64 2147483647] 23 (0, 0)) := by rw [hw7]; exact heap_alloc_new w6 _
  have hb7 : Below w6.heap.size w6 w7 := by rw [hw7]; exact (Below.refl _ _).alloc (Nat.le_refl _) _
  obtain ⟨f, hf⟩ : ∃ g, g = w6.heap.size := ⟨_, rfl⟩
  have hgf : g + 1 < f := by rw [hf]; exact lt_of_heapZ HK6.out.2
  have hff : w.heap.size ≤ f := by rw [hf]; exact HB6.out.size
  rw [← hf] at hr7
  have HB7 := Lib.hid (HB6.out.trans (hb7.mono HB6.out.size))
  have HK7 := Lib.hid (HK6.out.up hb7)
  have HW7 := Lib.hid hw7
  have HF7 := Lib.hid hf
  have HR7 := Lib.hid hr7
  have HGF := Lib.hid (And.intro hgf hff)
  clear hb6 hb7 hw7 hr7 hf hgf hff
  go_upto_region 5 with fail
  rw [← HW7.out, ← HF7.out]
  have p0 : w7.cell? ⟨f, 0, none⟩ = some (.int .i64 4096) := cell_of_row _ f 0 _ 23 _ HR7.out
  have z0 : w7.frozen? ⟨f, 0, none⟩ = false := frozen_of_row _ f 0 _ 23 HR7.out
  obtain ⟨w8, hw8⟩ : ∃ x, x = w7.setCell ⟨f, 0, none⟩ (.int .i64 m) := ⟨_, rfl⟩
  have hr8 : w8.heap[f]? = some (.cells #[.int .i64 m, .int .i64 1, .int .i64 2147483647, .int .i64 65535, .int .i64 16384, .int .i64 2147483647] 23 (0, 0)) := by
    rw [hw8]
    have := heap_setCell_same w7 f 0 _ 23 (.int .i64 m) HR7.out
    simpa using this
  have hk8 : KZ w8 g ⟨m, 1, 2147483647, 65535, 16384, 2147483647⟩ noFlt := by
    have hgf := HGF.out.1
    rw [hw8]
    exact ⟨(Below.heap_setCell w7 ⟨f, 0, none⟩ _ g (show g ≠ f by omega)).trans HK7.out.1, (Below.heap_setCell w7 ⟨f, 0, none⟩ _ (g + 1) (show g + 1 ≠ f by omega)).trans HK7.out.2⟩
  have HB8 := Lib.hid (show Below w.heap.size w w8 by rw [hw8]; exact HB7.out.setCell (p := ⟨f, 0, none⟩) HGF.out.2 _)
  have HK8 := Lib.hid hk8
  have HR8 := Lib.hid hr8
  have HW8 := Lib.hid hw8
  clear hw8 hr8 hk8
  go_upto_region 25 with fail
  rw [← HW8.out]
  clear p0 z0
  go_wp2_with fail
  with_reducible refine (HFST.out w8).mono ?_
  rintro e w9 ⟨rfl, hb9⟩
  have HB9 := Lib.hid (HB8.out.trans (hb9.mono HB8.out.size))
  obtain ⟨c0, c1, c2, c3, c4, c5⟩ := (HK8.out.up hb9).sets
  obtain ⟨d0, d1, d2⟩ := (HK8.out.up hb9).flt
  have hr9 := (hb9.block f (lt_of_heapZ HR8.out)).trans HR8.out
  have b0 : w9.cell? ⟨f, 0, none⟩ = some (.int .i64 m) := cell_of_row _ f 0 _ 23 _ hr9
  have b1 : w9.cell? ⟨f, 1, none⟩ = some (.int .i64 1) := cell_of_row _ f 1 _ 23 _ hr9
  have b2 : w9.cell? ⟨f, 2, none⟩ = some (.int .i64 2147483647) := cell_of_row _ f 2 _ 23 _ hr9
  have b3 : w9.cell? ⟨f, 3, none⟩ = some (.int .i64 65535) := cell_of_row _ f 3 _ 23 _ hr9
  have b4 : w9.cell? ⟨f, 4, none⟩ = some (.int .i64 16384) := cell_of_row _ f 4 _ 23 _ hr9
  have b5 : w9.cell? ⟨f, 5, none⟩ = some (.int .i64 2147483647) := cell_of_row _ f 5 _ 23 _ hr9
  clear hb9 hr9
  simp only [noFlt] at d0 d1 d2
  go_wp2
  go_ret
  exact ⟨by simp, HB9.out⟩
set_option maxRecDepth 100000 in
set_option maxHeartbeats 4000000 in
theorem e2a (v : Int) (w : World) (h : v = 0) : Calls Try.prog 5 #[.int .i64 2, .int .i64 v] w (YesZ w) := by
  have HFST := Lib.hid fun (W : World) => first13_any W
  have HFI := Lib.hid fun (W : World) => zfirst_is W
  obtain ⟨m, hm⟩ : ∃ m, m = cap v := ⟨_, rfl⟩
  have om : (if 2147483647 < v then 2147483647 else v) = m := hm.symm
  have hap : apply firstSt [(2, v)] = (⟨4096, v, 2147483647, 65535, 16384, 2147483647⟩, noFlt) := by
    simp [apply, one, firstSt, noFlt, h]
  have HAP : Hid (∀ (A : Option Addr) (W : World), AtS W W.heap.size A [(2, v)] → Calls Try.prog 8 #[.agg #[.int .i64 4096, .int .i64 1, .int .i64 2147483647, .int .i64 65535, .int .i64 16384, .int .i64 2147483647], .slice A 1 1] W fun e w' => e = .returned (.tuple #[.agg #[.int .i64 4096, .int .i64 v, .int .i64 2147483647, .int .i64 65535, .int .i64 16384, .int .i64 2147483647], .agg #[.bool false, .bool false, .int .i64 0]]) ∧ Below W.heap.size W w') := Lib.hid (fun A W h => by
    have := zapply_f firstSt A [(2, v)] 1 1 W h rfl (by omega)
    rw [hap] at this
    exact this)
  have k0 : (v != 0) = false := by rw [h]; rfl
  clear h
  clear hap hm
  go_enter Try.func5, Try.ntmps5
  have HB0 := Lib.hid (Below.refl w.heap.size w)
  go_wp2_with fail
  with_reducible refine (HFST.out w).mono ?_
  rintro e w1 ⟨rfl, hb1⟩
  have HB1 := Lib.hid (HB0.out.trans (hb1.mono HB0.out.size))
  clear hb1
  go_wp2_with fail
  with_reducible refine (HFI.out w1).mono ?_
  rintro e w2 ⟨rfl, hb2⟩
  have HB2 := Lib.hid (HB1.out.trans (hb2.mono HB1.out.size))
  clear hb2
  obtain ⟨hat, hb3⟩ := atS_one w2 (2) v
  have HAT := Lib.hid hat
  have HB3 := Lib.hid (HB2.out.trans (hb3.mono HB2.out.size))
  clear hat hb3
  go_wp2_with fail
  with_reducible refine (HAP.out _ _ HAT.out).mono ?_
  rintro e w4 ⟨rfl, hb4⟩
  have HB4 := Lib.hid (HB3.out.trans (hb4.mono HB3.out.size))
  obtain ⟨hk, hb5⟩ := kz_of w4 ⟨4096, v, 2147483647, 65535, 16384, 2147483647⟩ noFlt
  obtain ⟨w5, hw5⟩ : ∃ x, x = keptZ w4 ⟨4096, v, 2147483647, 65535, 16384, 2147483647⟩ noFlt := ⟨_, rfl⟩
  rw [← hw5] at hk hb5
  have hw5' : w5 = (w4.alloc (.cells #[.int .i64 4096, .int .i64 v, .int .i64 2147483647, .int .i64 65535, .int .i64 16384, .int .i64 2147483647] 23)).alloc (.cells #[.bool false, .bool false, .int .i64 0] 27) := hw5
  have HB5 := Lib.hid (HB4.out.trans (hb5.mono HB4.out.size))
  have HW5 := Lib.hid hw5'
  obtain ⟨g, hg⟩ : ∃ g, g = w4.heap.size := ⟨_, rfl⟩
  rw [← hg] at hk
  have HG := Lib.hid hg
  have HK5 := Lib.hid hk
  clear hb4 hb5 hw5 hw5' hg hk
  go_upto_region 4 with fail
  rw [← HW5.out, ← HG.out]
  go_wp2_with fail
  with_reducible refine (HFI.out w5).mono ?_
  rintro e w6 ⟨rfl, hb6⟩
  have HB6 := Lib.hid (HB5.out.trans (hb6.mono HB5.out.size))
  have HK6 := Lib.hid (HK5.out.up hb6)
  obtain ⟨w7, hw7⟩ : ∃ x, x = w6.alloc (.cells #[.int .i64 4096, .int .i64 1, .int .i64 2147483647, .int .i64 65535, .int .i64 16384, .int .i64 2147483647] 23) := ⟨_, rfl⟩
  have hr7 : w7.heap[w6.heap.size]? = some (.cells #[.int .i64 4096, .int .i64 1, .int .i64 2147483647, .int .i64 65535, .int .i64 16384, .int .i64 2147483647] 23 (0, 0)) := by rw [hw7]; exact heap_alloc_new w6 _
  have hb7 : Below w6.heap.size w6 w7 := by rw [hw7]; exact (Below.refl _ _).alloc (Nat.le_refl _) _
  obtain ⟨f, hf⟩ : ∃ g, g = w6.heap.size := ⟨_, rfl⟩
  have hgf : g + 1 < f := by rw [hf]; exact lt_of_heapZ HK6.out.2
  have hff : w.heap.size ≤ f := by rw [hf]; exact HB6.out.size
  rw [← hf] at hr7
  have HB7 := Lib.hid (HB6.out.trans (hb7.mono HB6.out.size))
  have HK7 := Lib.hid (HK6.out.up hb7)
  have HW7 := Lib.hid hw7
  have HF7 := Lib.hid hf
  have HR7 := Lib.hid hr7
  have HGF := Lib.hid (And.intro hgf hff)
  clear hb6 hb7 hw7 hr7 hf hgf hff
  go_upto_region 5 with fail
  rw [← HW7.out, ← HF7.out]
  have p1 : w7.cell? ⟨f, 1, none⟩ = some (.int .i64 1) := cell_of_row _ f 1 _ 23 _ HR7.out
  have z1 : w7.frozen? ⟨f, 1, none⟩ = false := frozen_of_row _ f 1 _ 23 HR7.out
  obtain ⟨w8, hw8⟩ : ∃ x, x = w7.setCell ⟨f, 1, none⟩ (.int .i64 v) := ⟨_, rfl⟩
  have hr8 : w8.heap[f]? = some (.cells #[.int .i64 4096, .int .i64 v, .int .i64 2147483647, .int .i64 65535, .int .i64 16384, .int .i64 2147483647] 23 (0, 0)) := by
    rw [hw8]
    have := heap_setCell_same w7 f 1 _ 23 (.int .i64 v) HR7.out
    simpa using this
  have hk8 : KZ w8 g ⟨4096, v, 2147483647, 65535, 16384, 2147483647⟩ noFlt := by
    have hgf := HGF.out.1
    rw [hw8]
    exact ⟨(Below.heap_setCell w7 ⟨f, 1, none⟩ _ g (show g ≠ f by omega)).trans HK7.out.1, (Below.heap_setCell w7 ⟨f, 1, none⟩ _ (g + 1) (show g + 1 ≠ f by omega)).trans HK7.out.2⟩
  have HB8 := Lib.hid (show Below w.heap.size w w8 by rw [hw8]; exact HB7.out.setCell (p := ⟨f, 1, none⟩) HGF.out.2 _)
  have HK8 := Lib.hid hk8
  have HR8 := Lib.hid hr8
  have HW8 := Lib.hid hw8
  clear hw8 hr8 hk8
  go_upto_region 25 with fail
  rw [← HW8.out]
  clear p1 z1
  go_wp2_with fail
  with_reducible refine (HFST.out w8).mono ?_
  rintro e w9 ⟨rfl, hb9⟩
  have HB9 := Lib.hid (HB8.out.trans (hb9.mono HB8.out.size))
  obtain ⟨c0, c1, c2, c3, c4, c5⟩ := (HK8.out.up hb9).sets
  obtain ⟨d0, d1, d2⟩ := (HK8.out.up hb9).flt
  have hr9 := (hb9.block f (lt_of_heapZ HR8.out)).trans HR8.out
  have b0 : w9.cell? ⟨f, 0, none⟩ = some (.int .i64 4096) := cell_of_row _ f 0 _ 23 _ hr9
  have b1 : w9.cell? ⟨f, 1, none⟩ = some (.int .i64 v) := cell_of_row _ f 1 _ 23 _ hr9
  have b2 : w9.cell? ⟨f, 2, none⟩ = some (.int .i64 2147483647) := cell_of_row _ f 2 _ 23 _ hr9
  have b3 : w9.cell? ⟨f, 3, none⟩ = some (.int .i64 65535) := cell_of_row _ f 3 _ 23 _ hr9
  have b4 : w9.cell? ⟨f, 4, none⟩ = some (.int .i64 16384) := cell_of_row _ f 4 _ 23 _ hr9
  have b5 : w9.cell? ⟨f, 5, none⟩ = some (.int .i64 2147483647) := cell_of_row _ f 5 _ 23 _ hr9
  clear hb9 hr9
  simp only [noFlt] at d0 d1 d2
  go_wp2
  go_ret
  exact ⟨by simp, HB9.out⟩
set_option maxRecDepth 100000 in
set_option maxHeartbeats 4000000 in
theorem e2b (v : Int) (w : World) (h : v = 1) : Calls Try.prog 5 #[.int .i64 2, .int .i64 v] w (YesZ w) := by
  have HFST := Lib.hid fun (W : World) => first13_any W
  have HFI := Lib.hid fun (W : World) => zfirst_is W
  obtain ⟨m, hm⟩ : ∃ m, m = cap v := ⟨_, rfl⟩
  have om : (if 2147483647 < v then 2147483647 else v) = m := hm.symm
  have hap : apply firstSt [(2, v)] = (⟨4096, v, 2147483647, 65535, 16384, 2147483647⟩, noFlt) := by
    simp [apply, one, firstSt, noFlt, h]
  have HAP : Hid (∀ (A : Option Addr) (W : World), AtS W W.heap.size A [(2, v)] → Calls Try.prog 8 #[.agg #[.int .i64 4096, .int .i64 1, .int .i64 2147483647, .int .i64 65535, .int .i64 16384, .int .i64 2147483647], .slice A 1 1] W fun e w' => e = .returned (.tuple #[.agg #[.int .i64 4096, .int .i64 v, .int .i64 2147483647, .int .i64 65535, .int .i64 16384, .int .i64 2147483647], .agg #[.bool false, .bool false, .int .i64 0]]) ∧ Below W.heap.size W w') := Lib.hid (fun A W h => by
    have := zapply_f firstSt A [(2, v)] 1 1 W h rfl (by omega)
    rw [hap] at this
    exact this)
  have k0 : (v != 0) = true := by rw [h]; rfl
  have k1 : (v != 1) = false := by rw [h]; rfl
  clear h
  clear hap hm
  go_enter Try.func5, Try.ntmps5
  have HB0 := Lib.hid (Below.refl w.heap.size w)
  go_wp2_with fail
  with_reducible refine (HFST.out w).mono ?_
  rintro e w1 ⟨rfl, hb1⟩
  have HB1 := Lib.hid (HB0.out.trans (hb1.mono HB0.out.size))
  clear hb1
  go_wp2_with fail
  with_reducible refine (HFI.out w1).mono ?_
  rintro e w2 ⟨rfl, hb2⟩
  have HB2 := Lib.hid (HB1.out.trans (hb2.mono HB1.out.size))
  clear hb2
  obtain ⟨hat, hb3⟩ := atS_one w2 (2) v
  have HAT := Lib.hid hat
  have HB3 := Lib.hid (HB2.out.trans (hb3.mono HB2.out.size))
  clear hat hb3
  go_wp2_with fail
  with_reducible refine (HAP.out _ _ HAT.out).mono ?_
  rintro e w4 ⟨rfl, hb4⟩
  have HB4 := Lib.hid (HB3.out.trans (hb4.mono HB3.out.size))
  obtain ⟨hk, hb5⟩ := kz_of w4 ⟨4096, v, 2147483647, 65535, 16384, 2147483647⟩ noFlt
  obtain ⟨w5, hw5⟩ : ∃ x, x = keptZ w4 ⟨4096, v, 2147483647, 65535, 16384, 2147483647⟩ noFlt := ⟨_, rfl⟩
  rw [← hw5] at hk hb5
  have hw5' : w5 = (w4.alloc (.cells #[.int .i64 4096, .int .i64 v, .int .i64 2147483647, .int .i64 65535, .int .i64 16384, .int .i64 2147483647] 23)).alloc (.cells #[.bool false, .bool false, .int .i64 0] 27) := hw5
  have HB5 := Lib.hid (HB4.out.trans (hb5.mono HB4.out.size))
  have HW5 := Lib.hid hw5'
  obtain ⟨g, hg⟩ : ∃ g, g = w4.heap.size := ⟨_, rfl⟩
  rw [← hg] at hk
  have HG := Lib.hid hg
  have HK5 := Lib.hid hk
  clear hb4 hb5 hw5 hw5' hg hk
  go_upto_region 4 with fail
  rw [← HW5.out, ← HG.out]
  go_wp2_with fail
  with_reducible refine (HFI.out w5).mono ?_
  rintro e w6 ⟨rfl, hb6⟩
  have HB6 := Lib.hid (HB5.out.trans (hb6.mono HB5.out.size))
  have HK6 := Lib.hid (HK5.out.up hb6)
  obtain ⟨w7, hw7⟩ : ∃ x, x = w6.alloc (.cells #[.int .i64 4096, .int .i64 1, .int .i64 2147483647, .int .i64 65535, .int .i64 16384, .int .i64 2147483647] 23) := ⟨_, rfl⟩
  have hr7 : w7.heap[w6.heap.size]? = some (.cells #[.int .i64 4096, .int .i64 1, .int .i64 2147483647, .int .i64 65535, .int .i64 16384, .int .i64 2147483647] 23 (0, 0)) := by rw [hw7]; exact heap_alloc_new w6 _
  have hb7 : Below w6.heap.size w6 w7 := by rw [hw7]; exact (Below.refl _ _).alloc (Nat.le_refl _) _
  obtain ⟨f, hf⟩ : ∃ g, g = w6.heap.size := ⟨_, rfl⟩
  have hgf : g + 1 < f := by rw [hf]; exact lt_of_heapZ HK6.out.2
  have hff : w.heap.size ≤ f := by rw [hf]; exact HB6.out.size
  rw [← hf] at hr7
  have HB7 := Lib.hid (HB6.out.trans (hb7.mono HB6.out.size))
  have HK7 := Lib.hid (HK6.out.up hb7)
  have HW7 := Lib.hid hw7
  have HF7 := Lib.hid hf
  have HR7 := Lib.hid hr7
  have HGF := Lib.hid (And.intro hgf hff)
  clear hb6 hb7 hw7 hr7 hf hgf hff
  go_upto_region 5 with fail
  rw [← HW7.out, ← HF7.out]
  have p1 : w7.cell? ⟨f, 1, none⟩ = some (.int .i64 1) := cell_of_row _ f 1 _ 23 _ HR7.out
  have z1 : w7.frozen? ⟨f, 1, none⟩ = false := frozen_of_row _ f 1 _ 23 HR7.out
  obtain ⟨w8, hw8⟩ : ∃ x, x = w7.setCell ⟨f, 1, none⟩ (.int .i64 v) := ⟨_, rfl⟩
  have hr8 : w8.heap[f]? = some (.cells #[.int .i64 4096, .int .i64 v, .int .i64 2147483647, .int .i64 65535, .int .i64 16384, .int .i64 2147483647] 23 (0, 0)) := by
    rw [hw8]
    have := heap_setCell_same w7 f 1 _ 23 (.int .i64 v) HR7.out
    simpa using this
  have hk8 : KZ w8 g ⟨4096, v, 2147483647, 65535, 16384, 2147483647⟩ noFlt := by
    have hgf := HGF.out.1
    rw [hw8]
    exact ⟨(Below.heap_setCell w7 ⟨f, 1, none⟩ _ g (show g ≠ f by omega)).trans HK7.out.1, (Below.heap_setCell w7 ⟨f, 1, none⟩ _ (g + 1) (show g + 1 ≠ f by omega)).trans HK7.out.2⟩
  have HB8 := Lib.hid (show Below w.heap.size w w8 by rw [hw8]; exact HB7.out.setCell (p := ⟨f, 1, none⟩) HGF.out.2 _)
  have HK8 := Lib.hid hk8
  have HR8 := Lib.hid hr8
  have HW8 := Lib.hid hw8
  clear hw8 hr8 hk8
  go_upto_region 25 with fail
  rw [← HW8.out]
  clear p1 z1
  go_wp2_with fail
  with_reducible refine (HFST.out w8).mono ?_
  rintro e w9 ⟨rfl, hb9⟩
  have HB9 := Lib.hid (HB8.out.trans (hb9.mono HB8.out.size))
  obtain ⟨c0, c1, c2, c3, c4, c5⟩ := (HK8.out.up hb9).sets
  obtain ⟨d0, d1, d2⟩ := (HK8.out.up hb9).flt
  have hr9 := (hb9.block f (lt_of_heapZ HR8.out)).trans HR8.out
  have b0 : w9.cell? ⟨f, 0, none⟩ = some (.int .i64 4096) := cell_of_row _ f 0 _ 23 _ hr9
  have b1 : w9.cell? ⟨f, 1, none⟩ = some (.int .i64 v) := cell_of_row _ f 1 _ 23 _ hr9
  have b2 : w9.cell? ⟨f, 2, none⟩ = some (.int .i64 2147483647) := cell_of_row _ f 2 _ 23 _ hr9
  have b3 : w9.cell? ⟨f, 3, none⟩ = some (.int .i64 65535) := cell_of_row _ f 3 _ 23 _ hr9
  have b4 : w9.cell? ⟨f, 4, none⟩ = some (.int .i64 16384) := cell_of_row _ f 4 _ 23 _ hr9
  have b5 : w9.cell? ⟨f, 5, none⟩ = some (.int .i64 2147483647) := cell_of_row _ f 5 _ 23 _ hr9
  clear hb9 hr9
  simp only [noFlt] at d0 d1 d2
  go_wp2
  go_ret
  exact ⟨by simp, HB9.out⟩
set_option maxRecDepth 100000 in
set_option maxHeartbeats 4000000 in
theorem e2c (v : Int) (w : World) (h : v < 0 ∨ 1 < v) : Calls Try.prog 5 #[.int .i64 2, .int .i64 v] w (YesZ w) := by
  have HFST := Lib.hid fun (W : World) => first13_any W
  have HFI := Lib.hid fun (W : World) => zfirst_is W
  obtain ⟨m, hm⟩ : ∃ m, m = cap v := ⟨_, rfl⟩
  have om : (if 2147483647 < v then 2147483647 else v) = m := hm.symm
  have hap : apply firstSt [(2, v)] = (⟨0, 0, 0, 0, 0, 0⟩, ⟨true, true, 1⟩) := by
    simp [apply, one, zeroSt, h]
  have HAP : Hid (∀ (A : Option Addr) (W : World), AtS W W.heap.size A [(2, v)] → Calls Try.prog 8 #[.agg #[.int .i64 4096, .int .i64 1, .int .i64 2147483647, .int .i64 65535, .int .i64 16384, .int .i64 2147483647], .slice A 1 1] W fun e w' => e = .returned (.tuple #[.agg #[.int .i64 0, .int .i64 0, .int .i64 0, .int .i64 0, .int .i64 0, .int .i64 0], .agg #[.bool true, .bool true, .int .i64 1]]) ∧ Below W.heap.size W w') := Lib.hid (fun A W h => by
    have := zapply_f firstSt A [(2, v)] 1 1 W h rfl (by omega)
    rw [hap] at this
    exact this)
  have k0 : (v != 0) = true := by rw [bne_iff_ne]; omega
  have k1 : (v != 1) = true := by rw [bne_iff_ne]; omega
  clear h
  clear hap hm
  go_enter Try.func5, Try.ntmps5
  have HB0 := Lib.hid (Below.refl w.heap.size w)
  go_wp2_with fail
  with_reducible refine (HFST.out w).mono ?_
  rintro e w1 ⟨rfl, hb1⟩
  have HB1 := Lib.hid (HB0.out.trans (hb1.mono HB0.out.size))
  clear hb1
  go_wp2_with fail
  with_reducible refine (HFI.out w1).mono ?_
  rintro e w2 ⟨rfl, hb2⟩
  have HB2 := Lib.hid (HB1.out.trans (hb2.mono HB1.out.size))
  clear hb2
  obtain ⟨hat, hb3⟩ := atS_one w2 (2) v
  have HAT := Lib.hid hat
  have HB3 := Lib.hid (HB2.out.trans (hb3.mono HB2.out.size))
  clear hat hb3
  go_wp2_with fail
  with_reducible refine (HAP.out _ _ HAT.out).mono ?_
  rintro e w4 ⟨rfl, hb4⟩
  have HB4 := Lib.hid (HB3.out.trans (hb4.mono HB3.out.size))
  obtain ⟨hk, hb5⟩ := kz_of w4 ⟨0, 0, 0, 0, 0, 0⟩ ⟨true, true, 1⟩
  obtain ⟨w5, hw5⟩ : ∃ x, x = keptZ w4 ⟨0, 0, 0, 0, 0, 0⟩ ⟨true, true, 1⟩ := ⟨_, rfl⟩
  rw [← hw5] at hk hb5
  have hw5' : w5 = (w4.alloc (.cells #[.int .i64 0, .int .i64 0, .int .i64 0, .int .i64 0, .int .i64 0, .int .i64 0] 23)).alloc (.cells #[.bool true, .bool true, .int .i64 1] 27) := hw5
  have HB5 := Lib.hid (HB4.out.trans (hb5.mono HB4.out.size))
  have HW5 := Lib.hid hw5'
  obtain ⟨g, hg⟩ : ∃ g, g = w4.heap.size := ⟨_, rfl⟩
  rw [← hg] at hk
  have HG := Lib.hid hg
  have HK5 := Lib.hid hk
  clear hb4 hb5 hw5 hw5' hg hk
  go_upto_region 4 with fail
  rw [← HW5.out, ← HG.out]
  go_wp2_with fail
  with_reducible refine (HFI.out w5).mono ?_
  rintro e w6 ⟨rfl, hb6⟩
  have HB6 := Lib.hid (HB5.out.trans (hb6.mono HB5.out.size))
  have HK6 := Lib.hid (HK5.out.up hb6)
  obtain ⟨w7, hw7⟩ : ∃ x, x = w6.alloc (.cells #[.int .i64 4096, .int .i64 1, .int .i64 2147483647, .int .i64 65535, .int .i64 16384, .int .i64 2147483647] 23) := ⟨_, rfl⟩
  have hr7 : w7.heap[w6.heap.size]? = some (.cells #[.int .i64 4096, .int .i64 1, .int .i64 2147483647, .int .i64 65535, .int .i64 16384, .int .i64 2147483647] 23 (0, 0)) := by rw [hw7]; exact heap_alloc_new w6 _
  have hb7 : Below w6.heap.size w6 w7 := by rw [hw7]; exact (Below.refl _ _).alloc (Nat.le_refl _) _
  obtain ⟨f, hf⟩ : ∃ g, g = w6.heap.size := ⟨_, rfl⟩
  have hgf : g + 1 < f := by rw [hf]; exact lt_of_heapZ HK6.out.2
  have hff : w.heap.size ≤ f := by rw [hf]; exact HB6.out.size
  rw [← hf] at hr7
  have HB7 := Lib.hid (HB6.out.trans (hb7.mono HB6.out.size))
  have HK7 := Lib.hid (HK6.out.up hb7)
  have HW7 := Lib.hid hw7
  have HF7 := Lib.hid hf
  have HR7 := Lib.hid hr7
  have HGF := Lib.hid (And.intro hgf hff)
  clear hb6 hb7 hw7 hr7 hf hgf hff
  go_upto_region 5 with fail
  rw [← HW7.out, ← HF7.out]
  have p1 : w7.cell? ⟨f, 1, none⟩ = some (.int .i64 1) := cell_of_row _ f 1 _ 23 _ HR7.out
  have z1 : w7.frozen? ⟨f, 1, none⟩ = false := frozen_of_row _ f 1 _ 23 HR7.out
  obtain ⟨w8, hw8⟩ : ∃ x, x = w7.setCell ⟨f, 1, none⟩ (.int .i64 v) := ⟨_, rfl⟩
  have hr8 : w8.heap[f]? = some (.cells #[.int .i64 4096, .int .i64 v, .int .i64 2147483647, .int .i64 65535, .int .i64 16384, .int .i64 2147483647] 23 (0, 0)) := by
    rw [hw8]
    have := heap_setCell_same w7 f 1 _ 23 (.int .i64 v) HR7.out
    simpa using this
  have hk8 : KZ w8 g ⟨0, 0, 0, 0, 0, 0⟩ ⟨true, true, 1⟩ := by
    have hgf := HGF.out.1
    rw [hw8]
    exact ⟨(Below.heap_setCell w7 ⟨f, 1, none⟩ _ g (show g ≠ f by omega)).trans HK7.out.1, (Below.heap_setCell w7 ⟨f, 1, none⟩ _ (g + 1) (show g + 1 ≠ f by omega)).trans HK7.out.2⟩
  have HB8 := Lib.hid (show Below w.heap.size w w8 by rw [hw8]; exact HB7.out.setCell (p := ⟨f, 1, none⟩) HGF.out.2 _)
  have HK8 := Lib.hid hk8
  have HR8 := Lib.hid hr8
  have HW8 := Lib.hid hw8
  clear hw8 hr8 hk8
  go_upto_region 25 with fail
  rw [← HW8.out]
  clear p1 z1
  go_wp2_with fail
  with_reducible refine (HFST.out w8).mono ?_
  rintro e w9 ⟨rfl, hb9⟩
  have HB9 := Lib.hid (HB8.out.trans (hb9.mono HB8.out.size))
  obtain ⟨c0, c1, c2, c3, c4, c5⟩ := (HK8.out.up hb9).sets
  obtain ⟨d0, d1, d2⟩ := (HK8.out.up hb9).flt
  have hr9 := (hb9.block f (lt_of_heapZ HR8.out)).trans HR8.out
  have b0 : w9.cell? ⟨f, 0, none⟩ = some (.int .i64 4096) := cell_of_row _ f 0 _ 23 _ hr9
  have b1 : w9.cell? ⟨f, 1, none⟩ = some (.int .i64 v) := cell_of_row _ f 1 _ 23 _ hr9
  have b2 : w9.cell? ⟨f, 2, none⟩ = some (.int .i64 2147483647) := cell_of_row _ f 2 _ 23 _ hr9
  have b3 : w9.cell? ⟨f, 3, none⟩ = some (.int .i64 65535) := cell_of_row _ f 3 _ 23 _ hr9
  have b4 : w9.cell? ⟨f, 4, none⟩ = some (.int .i64 16384) := cell_of_row _ f 4 _ 23 _ hr9
  have b5 : w9.cell? ⟨f, 5, none⟩ = some (.int .i64 2147483647) := cell_of_row _ f 5 _ 23 _ hr9
  clear hb9 hr9
  simp only [] at d0 d1 d2
  go_wp2
  go_ret
  exact ⟨by simp, HB9.out⟩
set_option maxRecDepth 100000 in
set_option maxHeartbeats 4000000 in
theorem e3 (v : Int) (w : World) : Calls Try.prog 5 #[.int .i64 3, .int .i64 v] w (YesZ w) := by
  have HFST := Lib.hid fun (W : World) => first13_any W
  have HFI := Lib.hid fun (W : World) => zfirst_is W
  obtain ⟨m, hm⟩ : ∃ m, m = cap v := ⟨_, rfl⟩
  have om : (if 2147483647 < v then 2147483647 else v) = m := hm.symm
  have hap : apply firstSt [(3, v)] = (⟨4096, 1, m, 65535, 16384, 2147483647⟩, noFlt) := by
    simp [apply, one, firstSt, noFlt, hm]
  have HAP : Hid (∀ (A : Option Addr) (W : World), AtS W W.heap.size A [(3, v)] → Calls Try.prog 8 #[.agg #[.int .i64 4096, .int .i64 1, .int .i64 2147483647, .int .i64 65535, .int .i64 16384, .int .i64 2147483647], .slice A 1 1] W fun e w' => e = .returned (.tuple #[.agg #[.int .i64 4096, .int .i64 1, .int .i64 m, .int .i64 65535, .int .i64 16384, .int .i64 2147483647], .agg #[.bool false, .bool false, .int .i64 0]]) ∧ Below W.heap.size W w') := Lib.hid (fun A W h => by
    have := zapply_f firstSt A [(3, v)] 1 1 W h rfl (by omega)
    rw [hap] at this
    exact this)
  clear hap hm
  go_enter Try.func5, Try.ntmps5
  have HB0 := Lib.hid (Below.refl w.heap.size w)
  go_wp2_with fail
  with_reducible refine (HFST.out w).mono ?_
  rintro e w1 ⟨rfl, hb1⟩
  have HB1 := Lib.hid (HB0.out.trans (hb1.mono HB0.out.size))
  clear hb1
  go_wp2_with fail
  with_reducible refine (HFI.out w1).mono ?_
  rintro e w2 ⟨rfl, hb2⟩
  have HB2 := Lib.hid (HB1.out.trans (hb2.mono HB1.out.size))
  clear hb2
  obtain ⟨hat, hb3⟩ := atS_one w2 (3) v
  have HAT := Lib.hid hat
  have HB3 := Lib.hid (HB2.out.trans (hb3.mono HB2.out.size))
  clear hat hb3
  go_wp2_with fail
  with_reducible refine (HAP.out _ _ HAT.out).mono ?_
  rintro e w4 ⟨rfl, hb4⟩
  have HB4 := Lib.hid (HB3.out.trans (hb4.mono HB3.out.size))
  obtain ⟨hk, hb5⟩ := kz_of w4 ⟨4096, 1, m, 65535, 16384, 2147483647⟩ noFlt
  obtain ⟨w5, hw5⟩ : ∃ x, x = keptZ w4 ⟨4096, 1, m, 65535, 16384, 2147483647⟩ noFlt := ⟨_, rfl⟩
  rw [← hw5] at hk hb5
  have hw5' : w5 = (w4.alloc (.cells #[.int .i64 4096, .int .i64 1, .int .i64 m, .int .i64 65535, .int .i64 16384, .int .i64 2147483647] 23)).alloc (.cells #[.bool false, .bool false, .int .i64 0] 27) := hw5
  have HB5 := Lib.hid (HB4.out.trans (hb5.mono HB4.out.size))
  have HW5 := Lib.hid hw5'
  obtain ⟨g, hg⟩ : ∃ g, g = w4.heap.size := ⟨_, rfl⟩
  rw [← hg] at hk
  have HG := Lib.hid hg
  have HK5 := Lib.hid hk
  clear hb4 hb5 hw5 hw5' hg hk
  go_upto_region 4 with fail
  rw [← HW5.out, ← HG.out]
  go_wp2_with fail
  with_reducible refine (HFI.out w5).mono ?_
  rintro e w6 ⟨rfl, hb6⟩
  have HB6 := Lib.hid (HB5.out.trans (hb6.mono HB5.out.size))
  have HK6 := Lib.hid (HK5.out.up hb6)
  obtain ⟨w7, hw7⟩ : ∃ x, x = w6.alloc (.cells #[.int .i64 4096, .int .i64 1, .int .i64 2147483647, .int .i64 65535, .int .i64 16384, .int .i64 2147483647] 23) := ⟨_, rfl⟩
  have hr7 : w7.heap[w6.heap.size]? = some (.cells #[.int .i64 4096, .int .i64 1, .int .i64 2147483647, .int .i64 65535, .int .i64 16384, .int .i64 2147483647] 23 (0, 0)) := by rw [hw7]; exact heap_alloc_new w6 _
  have hb7 : Below w6.heap.size w6 w7 := by rw [hw7]; exact (Below.refl _ _).alloc (Nat.le_refl _) _
  obtain ⟨f, hf⟩ : ∃ g, g = w6.heap.size := ⟨_, rfl⟩
  have hgf : g + 1 < f := by rw [hf]; exact lt_of_heapZ HK6.out.2
  have hff : w.heap.size ≤ f := by rw [hf]; exact HB6.out.size
  rw [← hf] at hr7
  have HB7 := Lib.hid (HB6.out.trans (hb7.mono HB6.out.size))
  have HK7 := Lib.hid (HK6.out.up hb7)
  have HW7 := Lib.hid hw7
  have HF7 := Lib.hid hf
  have HR7 := Lib.hid hr7
  have HGF := Lib.hid (And.intro hgf hff)
  clear hb6 hb7 hw7 hr7 hf hgf hff
  go_upto_region 5 with fail
  rw [← HW7.out, ← HF7.out]
  have p2 : w7.cell? ⟨f, 2, none⟩ = some (.int .i64 2147483647) := cell_of_row _ f 2 _ 23 _ HR7.out
  have z2 : w7.frozen? ⟨f, 2, none⟩ = false := frozen_of_row _ f 2 _ 23 HR7.out
  obtain ⟨w8, hw8⟩ : ∃ x, x = w7.setCell ⟨f, 2, none⟩ (.int .i64 m) := ⟨_, rfl⟩
  have hr8 : w8.heap[f]? = some (.cells #[.int .i64 4096, .int .i64 1, .int .i64 m, .int .i64 65535, .int .i64 16384, .int .i64 2147483647] 23 (0, 0)) := by
    rw [hw8]
    have := heap_setCell_same w7 f 2 _ 23 (.int .i64 m) HR7.out
    simpa using this
  have hk8 : KZ w8 g ⟨4096, 1, m, 65535, 16384, 2147483647⟩ noFlt := by
    have hgf := HGF.out.1
    rw [hw8]
    exact ⟨(Below.heap_setCell w7 ⟨f, 2, none⟩ _ g (show g ≠ f by omega)).trans HK7.out.1, (Below.heap_setCell w7 ⟨f, 2, none⟩ _ (g + 1) (show g + 1 ≠ f by omega)).trans HK7.out.2⟩
  have HB8 := Lib.hid (show Below w.heap.size w w8 by rw [hw8]; exact HB7.out.setCell (p := ⟨f, 2, none⟩) HGF.out.2 _)
  have HK8 := Lib.hid hk8
  have HR8 := Lib.hid hr8
  have HW8 := Lib.hid hw8
  clear hw8 hr8 hk8
  go_upto_region 25 with fail
  rw [← HW8.out]
  clear p2 z2
  go_wp2_with fail
  with_reducible refine (HFST.out w8).mono ?_
  rintro e w9 ⟨rfl, hb9⟩
  have HB9 := Lib.hid (HB8.out.trans (hb9.mono HB8.out.size))
  obtain ⟨c0, c1, c2, c3, c4, c5⟩ := (HK8.out.up hb9).sets
  obtain ⟨d0, d1, d2⟩ := (HK8.out.up hb9).flt
  have hr9 := (hb9.block f (lt_of_heapZ HR8.out)).trans HR8.out
  have b0 : w9.cell? ⟨f, 0, none⟩ = some (.int .i64 4096) := cell_of_row _ f 0 _ 23 _ hr9
  have b1 : w9.cell? ⟨f, 1, none⟩ = some (.int .i64 1) := cell_of_row _ f 1 _ 23 _ hr9
  have b2 : w9.cell? ⟨f, 2, none⟩ = some (.int .i64 m) := cell_of_row _ f 2 _ 23 _ hr9
  have b3 : w9.cell? ⟨f, 3, none⟩ = some (.int .i64 65535) := cell_of_row _ f 3 _ 23 _ hr9
  have b4 : w9.cell? ⟨f, 4, none⟩ = some (.int .i64 16384) := cell_of_row _ f 4 _ 23 _ hr9
  have b5 : w9.cell? ⟨f, 5, none⟩ = some (.int .i64 2147483647) := cell_of_row _ f 5 _ 23 _ hr9
  clear hb9 hr9
  simp only [noFlt] at d0 d1 d2
  go_wp2
  go_ret
  exact ⟨by simp, HB9.out⟩
set_option maxRecDepth 100000 in
set_option maxHeartbeats 4000000 in
theorem e4a (v : Int) (w : World) (h : ¬ 2147483647 < v) : Calls Try.prog 5 #[.int .i64 4, .int .i64 v] w (YesZ w) := by
  have HFST := Lib.hid fun (W : World) => first13_any W
  have HFI := Lib.hid fun (W : World) => zfirst_is W
  obtain ⟨m, hm⟩ : ∃ m, m = cap v := ⟨_, rfl⟩
  have om : (if 2147483647 < v then 2147483647 else v) = m := hm.symm
  have hap : apply firstSt [(4, v)] = (⟨4096, 1, 2147483647, v, 16384, 2147483647⟩, noFlt) := by
    simp [apply, one, firstSt, noFlt, h]
  have HAP : Hid (∀ (A : Option Addr) (W : World), AtS W W.heap.size A [(4, v)] → Calls Try.prog 8 #[.agg #[.int .i64 4096, .int .i64 1, .int .i64 2147483647, .int .i64 65535, .int .i64 16384, .int .i64 2147483647], .slice A 1 1] W fun e w' => e = .returned (.tuple #[.agg #[.int .i64 4096, .int .i64 1, .int .i64 2147483647, .int .i64 v, .int .i64 16384, .int .i64 2147483647], .agg #[.bool false, .bool false, .int .i64 0]]) ∧ Below W.heap.size W w') := Lib.hid (fun A W h => by
    have := zapply_f firstSt A [(4, v)] 1 1 W h rfl (by omega)
    rw [hap] at this
    exact this)
  have k0 := h
  clear h
  clear hap hm
  go_enter Try.func5, Try.ntmps5
  have HB0 := Lib.hid (Below.refl w.heap.size w)
  go_wp2_with fail
  with_reducible refine (HFST.out w).mono ?_
  rintro e w1 ⟨rfl, hb1⟩
  have HB1 := Lib.hid (HB0.out.trans (hb1.mono HB0.out.size))
  clear hb1
  go_wp2_with fail
  with_reducible refine (HFI.out w1).mono ?_
  rintro e w2 ⟨rfl, hb2⟩
  have HB2 := Lib.hid (HB1.out.trans (hb2.mono HB1.out.size))
  clear hb2
  obtain ⟨hat, hb3⟩ := atS_one w2 (4) v
  have HAT := Lib.hid hat
  have HB3 := Lib.hid (HB2.out.trans (hb3.mono HB2.out.size))
  clear hat hb3
  go_wp2_with fail
  with_reducible refine (HAP.out _ _ HAT.out).mono ?_
  rintro e w4 ⟨rfl, hb4⟩
  have HB4 := Lib.hid (HB3.out.trans (hb4.mono HB3.out.size))
  obtain ⟨hk, hb5⟩ := kz_of w4 ⟨4096, 1, 2147483647, v, 16384, 2147483647⟩ noFlt
  obtain ⟨w5, hw5⟩ : ∃ x, x = keptZ w4 ⟨4096, 1, 2147483647, v, 16384, 2147483647⟩ noFlt := ⟨_, rfl⟩
  rw [← hw5] at hk hb5
  have hw5' : w5 = (w4.alloc (.cells #[.int .i64 4096, .int .i64 1, .int .i64 2147483647, .int .i64 v, .int .i64 16384, .int .i64 2147483647] 23)).alloc (.cells #[.bool false, .bool false, .int .i64 0] 27) := hw5
  have HB5 := Lib.hid (HB4.out.trans (hb5.mono HB4.out.size))
  have HW5 := Lib.hid hw5'
  obtain ⟨g, hg⟩ : ∃ g, g = w4.heap.size := ⟨_, rfl⟩
  rw [← hg] at hk
  have HG := Lib.hid hg
  have HK5 := Lib.hid hk
  clear hb4 hb5 hw5 hw5' hg hk
  go_upto_region 4 with fail
  rw [← HW5.out, ← HG.out]
  go_wp2_with fail
  with_reducible refine (HFI.out w5).mono ?_
  rintro e w6 ⟨rfl, hb6⟩
  have HB6 := Lib.hid (HB5.out.trans (hb6.mono HB5.out.size))
  have HK6 := Lib.hid (HK5.out.up hb6)
  obtain ⟨w7, hw7⟩ : ∃ x, x = w6.alloc (.cells #[.int .i64 4096, .int .i64 1, .int .i64 2147483647, .int .i64 65535, .int .i64 16384, .int .i64 2147483647] 23) := ⟨_, rfl⟩
  have hr7 : w7.heap[w6.heap.size]? = some (.cells #[.int .i64 4096, .int .i64 1, .int .i64 2147483647, .int .i64 65535, .int .i64 16384, .int .i64 2147483647] 23 (0, 0)) := by rw [hw7]; exact heap_alloc_new w6 _
  have hb7 : Below w6.heap.size w6 w7 := by rw [hw7]; exact (Below.refl _ _).alloc (Nat.le_refl _) _
  obtain ⟨f, hf⟩ : ∃ g, g = w6.heap.size := ⟨_, rfl⟩
  have hgf : g + 1 < f := by rw [hf]; exact lt_of_heapZ HK6.out.2
  have hff : w.heap.size ≤ f := by rw [hf]; exact HB6.out.size
  rw [← hf] at hr7
  have HB7 := Lib.hid (HB6.out.trans (hb7.mono HB6.out.size))
  have HK7 := Lib.hid (HK6.out.up hb7)
  have HW7 := Lib.hid hw7
  have HF7 := Lib.hid hf
  have HR7 := Lib.hid hr7
  have HGF := Lib.hid (And.intro hgf hff)
  clear hb6 hb7 hw7 hr7 hf hgf hff
  go_upto_region 5 with fail
  rw [← HW7.out, ← HF7.out]
  have p3 : w7.cell? ⟨f, 3, none⟩ = some (.int .i64 65535) := cell_of_row _ f 3 _ 23 _ HR7.out
  have z3 : w7.frozen? ⟨f, 3, none⟩ = false := frozen_of_row _ f 3 _ 23 HR7.out
  obtain ⟨w8, hw8⟩ : ∃ x, x = w7.setCell ⟨f, 3, none⟩ (.int .i64 v) := ⟨_, rfl⟩
  have hr8 : w8.heap[f]? = some (.cells #[.int .i64 4096, .int .i64 1, .int .i64 2147483647, .int .i64 v, .int .i64 16384, .int .i64 2147483647] 23 (0, 0)) := by
    rw [hw8]
    have := heap_setCell_same w7 f 3 _ 23 (.int .i64 v) HR7.out
    simpa using this
  have hk8 : KZ w8 g ⟨4096, 1, 2147483647, v, 16384, 2147483647⟩ noFlt := by
    have hgf := HGF.out.1
    rw [hw8]
    exact ⟨(Below.heap_setCell w7 ⟨f, 3, none⟩ _ g (show g ≠ f by omega)).trans HK7.out.1, (Below.heap_setCell w7 ⟨f, 3, none⟩ _ (g + 1) (show g + 1 ≠ f by omega)).trans HK7.out.2⟩
  have HB8 := Lib.hid (show Below w.heap.size w w8 by rw [hw8]; exact HB7.out.setCell (p := ⟨f, 3, none⟩) HGF.out.2 _)
  have HK8 := Lib.hid hk8
  have HR8 := Lib.hid hr8
  have HW8 := Lib.hid hw8
  clear hw8 hr8 hk8
  go_upto_region 25 with fail
  rw [← HW8.out]
  clear p3 z3
  go_wp2_with fail
  with_reducible refine (HFST.out w8).mono ?_
  rintro e w9 ⟨rfl, hb9⟩
  have HB9 := Lib.hid (HB8.out.trans (hb9.mono HB8.out.size))
  obtain ⟨c0, c1, c2, c3, c4, c5⟩ := (HK8.out.up hb9).sets
  obtain ⟨d0, d1, d2⟩ := (HK8.out.up hb9).flt
  have hr9 := (hb9.block f (lt_of_heapZ HR8.out)).trans HR8.out
  have b0 : w9.cell? ⟨f, 0, none⟩ = some (.int .i64 4096) := cell_of_row _ f 0 _ 23 _ hr9
  have b1 : w9.cell? ⟨f, 1, none⟩ = some (.int .i64 1) := cell_of_row _ f 1 _ 23 _ hr9
  have b2 : w9.cell? ⟨f, 2, none⟩ = some (.int .i64 2147483647) := cell_of_row _ f 2 _ 23 _ hr9
  have b3 : w9.cell? ⟨f, 3, none⟩ = some (.int .i64 v) := cell_of_row _ f 3 _ 23 _ hr9
  have b4 : w9.cell? ⟨f, 4, none⟩ = some (.int .i64 16384) := cell_of_row _ f 4 _ 23 _ hr9
  have b5 : w9.cell? ⟨f, 5, none⟩ = some (.int .i64 2147483647) := cell_of_row _ f 5 _ 23 _ hr9
  clear hb9 hr9
  simp only [noFlt] at d0 d1 d2
  go_wp2
  go_ret
  exact ⟨by simp, HB9.out⟩
set_option maxRecDepth 100000 in
set_option maxHeartbeats 4000000 in
theorem e4b (v : Int) (w : World) (h : 2147483647 < v) : Calls Try.prog 5 #[.int .i64 4, .int .i64 v] w (YesZ w) := by
  have HFST := Lib.hid fun (W : World) => first13_any W
  have HFI := Lib.hid fun (W : World) => zfirst_is W
  obtain ⟨m, hm⟩ : ∃ m, m = cap v := ⟨_, rfl⟩
  have om : (if 2147483647 < v then 2147483647 else v) = m := hm.symm
  have hap : apply firstSt [(4, v)] = (⟨0, 0, 0, 0, 0, 0⟩, ⟨true, true, 3⟩) := by
    simp [apply, one, zeroSt, h]
  have HAP : Hid (∀ (A : Option Addr) (W : World), AtS W W.heap.size A [(4, v)] → Calls Try.prog 8 #[.agg #[.int .i64 4096, .int .i64 1, .int .i64 2147483647, .int .i64 65535, .int .i64 16384, .int .i64 2147483647], .slice A 1 1] W fun e w' => e = .returned (.tuple #[.agg #[.int .i64 0, .int .i64 0, .int .i64 0, .int .i64 0, .int .i64 0, .int .i64 0], .agg #[.bool true, .bool true, .int .i64 3]]) ∧ Below W.heap.size W w') := Lib.hid (fun A W h => by
    have := zapply_f firstSt A [(4, v)] 1 1 W h rfl (by omega)
    rw [hap] at this
    exact this)
  have k0 := h
  clear h
  clear hap hm
  go_enter Try.func5, Try.ntmps5
  have HB0 := Lib.hid (Below.refl w.heap.size w)
  go_wp2_with fail
  with_reducible refine (HFST.out w).mono ?_
  rintro e w1 ⟨rfl, hb1⟩
  have HB1 := Lib.hid (HB0.out.trans (hb1.mono HB0.out.size))
  clear hb1
  go_wp2_with fail
  with_reducible refine (HFI.out w1).mono ?_
  rintro e w2 ⟨rfl, hb2⟩
  have HB2 := Lib.hid (HB1.out.trans (hb2.mono HB1.out.size))
  clear hb2
  obtain ⟨hat, hb3⟩ := atS_one w2 (4) v
  have HAT := Lib.hid hat
  have HB3 := Lib.hid (HB2.out.trans (hb3.mono HB2.out.size))
  clear hat hb3
  go_wp2_with fail
  with_reducible refine (HAP.out _ _ HAT.out).mono ?_
  rintro e w4 ⟨rfl, hb4⟩
  have HB4 := Lib.hid (HB3.out.trans (hb4.mono HB3.out.size))
  obtain ⟨hk, hb5⟩ := kz_of w4 ⟨0, 0, 0, 0, 0, 0⟩ ⟨true, true, 3⟩
  obtain ⟨w5, hw5⟩ : ∃ x, x = keptZ w4 ⟨0, 0, 0, 0, 0, 0⟩ ⟨true, true, 3⟩ := ⟨_, rfl⟩
  rw [← hw5] at hk hb5
  have hw5' : w5 = (w4.alloc (.cells #[.int .i64 0, .int .i64 0, .int .i64 0, .int .i64 0, .int .i64 0, .int .i64 0] 23)).alloc (.cells #[.bool true, .bool true, .int .i64 3] 27) := hw5
  have HB5 := Lib.hid (HB4.out.trans (hb5.mono HB4.out.size))
  have HW5 := Lib.hid hw5'
  obtain ⟨g, hg⟩ : ∃ g, g = w4.heap.size := ⟨_, rfl⟩
  rw [← hg] at hk
  have HG := Lib.hid hg
  have HK5 := Lib.hid hk
  clear hb4 hb5 hw5 hw5' hg hk
  go_upto_region 4 with fail
  rw [← HW5.out, ← HG.out]
  go_wp2_with fail
  with_reducible refine (HFI.out w5).mono ?_
  rintro e w6 ⟨rfl, hb6⟩
  have HB6 := Lib.hid (HB5.out.trans (hb6.mono HB5.out.size))
  have HK6 := Lib.hid (HK5.out.up hb6)
  obtain ⟨w7, hw7⟩ : ∃ x, x = w6.alloc (.cells #[.int .i64 4096, .int .i64 1, .int .i64 2147483647, .int .i64 65535, .int .i64 16384, .int .i64 2147483647] 23) := ⟨_, rfl⟩
  have hr7 : w7.heap[w6.heap.size]? = some (.cells #[.int .i64 4096, .int .i64 1, .int .i64 2147483647, .int .i64 65535, .int .i64 16384, .int .i64 2147483647] 23 (0, 0)) := by rw [hw7]; exact heap_alloc_new w6 _
  have hb7 : Below w6.heap.size w6 w7 := by rw [hw7]; exact (Below.refl _ _).alloc (Nat.le_refl _) _
  obtain ⟨f, hf⟩ : ∃ g, g = w6.heap.size := ⟨_, rfl⟩
  have hgf : g + 1 < f := by rw [hf]; exact lt_of_heapZ HK6.out.2
  have hff : w.heap.size ≤ f := by rw [hf]; exact HB6.out.size
  rw [← hf] at hr7
  have HB7 := Lib.hid (HB6.out.trans (hb7.mono HB6.out.size))
  have HK7 := Lib.hid (HK6.out.up hb7)
  have HW7 := Lib.hid hw7
  have HF7 := Lib.hid hf
  have HR7 := Lib.hid hr7
  have HGF := Lib.hid (And.intro hgf hff)
  clear hb6 hb7 hw7 hr7 hf hgf hff
  go_upto_region 5 with fail
  rw [← HW7.out, ← HF7.out]
  have p3 : w7.cell? ⟨f, 3, none⟩ = some (.int .i64 65535) := cell_of_row _ f 3 _ 23 _ HR7.out
  have z3 : w7.frozen? ⟨f, 3, none⟩ = false := frozen_of_row _ f 3 _ 23 HR7.out
  obtain ⟨w8, hw8⟩ : ∃ x, x = w7.setCell ⟨f, 3, none⟩ (.int .i64 v) := ⟨_, rfl⟩
  have hr8 : w8.heap[f]? = some (.cells #[.int .i64 4096, .int .i64 1, .int .i64 2147483647, .int .i64 v, .int .i64 16384, .int .i64 2147483647] 23 (0, 0)) := by
    rw [hw8]
    have := heap_setCell_same w7 f 3 _ 23 (.int .i64 v) HR7.out
    simpa using this
  have hk8 : KZ w8 g ⟨0, 0, 0, 0, 0, 0⟩ ⟨true, true, 3⟩ := by
    have hgf := HGF.out.1
    rw [hw8]
    exact ⟨(Below.heap_setCell w7 ⟨f, 3, none⟩ _ g (show g ≠ f by omega)).trans HK7.out.1, (Below.heap_setCell w7 ⟨f, 3, none⟩ _ (g + 1) (show g + 1 ≠ f by omega)).trans HK7.out.2⟩
  have HB8 := Lib.hid (show Below w.heap.size w w8 by rw [hw8]; exact HB7.out.setCell (p := ⟨f, 3, none⟩) HGF.out.2 _)
  have HK8 := Lib.hid hk8
  have HR8 := Lib.hid hr8
  have HW8 := Lib.hid hw8
  clear hw8 hr8 hk8
  go_upto_region 25 with fail
  rw [← HW8.out]
  clear p3 z3
  go_wp2_with fail
  with_reducible refine (HFST.out w8).mono ?_
  rintro e w9 ⟨rfl, hb9⟩
  have HB9 := Lib.hid (HB8.out.trans (hb9.mono HB8.out.size))
  obtain ⟨c0, c1, c2, c3, c4, c5⟩ := (HK8.out.up hb9).sets
  obtain ⟨d0, d1, d2⟩ := (HK8.out.up hb9).flt
  have hr9 := (hb9.block f (lt_of_heapZ HR8.out)).trans HR8.out
  have b0 : w9.cell? ⟨f, 0, none⟩ = some (.int .i64 4096) := cell_of_row _ f 0 _ 23 _ hr9
  have b1 : w9.cell? ⟨f, 1, none⟩ = some (.int .i64 1) := cell_of_row _ f 1 _ 23 _ hr9
  have b2 : w9.cell? ⟨f, 2, none⟩ = some (.int .i64 2147483647) := cell_of_row _ f 2 _ 23 _ hr9
  have b3 : w9.cell? ⟨f, 3, none⟩ = some (.int .i64 v) := cell_of_row _ f 3 _ 23 _ hr9
  have b4 : w9.cell? ⟨f, 4, none⟩ = some (.int .i64 16384) := cell_of_row _ f 4 _ 23 _ hr9
  have b5 : w9.cell? ⟨f, 5, none⟩ = some (.int .i64 2147483647) := cell_of_row _ f 5 _ 23 _ hr9
  clear hb9 hr9
  simp only [] at d0 d1 d2
  go_wp2
  go_ret
  exact ⟨by simp, HB9.out⟩
set_option maxRecDepth 100000 in
set_option maxHeartbeats 4000000 in
theorem e5a (v : Int) (w : World) (h0 : ¬ v < 16384) (h1 : ¬ 16777215 < v) : Calls Try.prog 5 #[.int .i64 5, .int .i64 v] w (YesZ w) := by
  have HFST := Lib.hid fun (W : World) => first13_any W
  have HFI := Lib.hid fun (W : World) => zfirst_is W
  obtain ⟨m, hm⟩ : ∃ m, m = cap v := ⟨_, rfl⟩
  have om : (if 2147483647 < v then 2147483647 else v) = m := hm.symm
  have hap : apply firstSt [(5, v)] = (⟨4096, 1, 2147483647, 65535, v, 2147483647⟩, noFlt) := by
    simp [apply, one, firstSt, noFlt, h0, h1]
  have HAP : Hid (∀ (A : Option Addr) (W : World), AtS W W.heap.size A [(5, v)] → Calls Try.prog 8 #[.agg #[.int .i64 4096, .int .i64 1, .int .i64 2147483647, .int .i64 65535, .int .i64 16384, .int .i64 2147483647], .slice A 1 1] W fun e w' => e = .returned (.tuple #[.agg #[.int .i64 4096, .int .i64 1, .int .i64 2147483647, .int .i64 65535, .int .i64 v, .int .i64 2147483647], .agg #[.bool false, .bool false, .int .i64 0]]) ∧ Below W.heap.size W w') := Lib.hid (fun A W h => by
    have := zapply_f firstSt A [(5, v)] 1 1 W h rfl (by omega)
    rw [hap] at this
    exact this)
  have k0 : ¬ v < 16384 := h0
  have k1 : ¬ 16777216 ≤ v := by omega
  clear h0 h1
  clear hap hm
  go_enter Try.func5, Try.ntmps5
  have HB0 := Lib.hid (Below.refl w.heap.size w)
  go_wp2_with fail
  with_reducible refine (HFST.out w).mono ?_
  rintro e w1 ⟨rfl, hb1⟩
  have HB1 := Lib.hid (HB0.out.trans (hb1.mono HB0.out.size))
  clear hb1
  go_wp2_with fail
  with_reducible refine (HFI.out w1).mono ?_
  rintro e w2 ⟨rfl, hb2⟩
  have HB2 := Lib.hid (HB1.out.trans (hb2.mono HB1.out.size))
  clear hb2
  obtain ⟨hat, hb3⟩ := atS_one w2 (5) v
  have HAT := Lib.hid hat
  have HB3 := Lib.hid (HB2.out.trans (hb3.mono HB2.out.size))
  clear hat hb3
  go_wp2_with fail
  with_reducible refine (HAP.out _ _ HAT.out).mono ?_
  rintro e w4 ⟨rfl, hb4⟩
  have HB4 := Lib.hid (HB3.out.trans (hb4.mono HB3.out.size))
  obtain ⟨hk, hb5⟩ := kz_of w4 ⟨4096, 1, 2147483647, 65535, v, 2147483647⟩ noFlt
  obtain ⟨w5, hw5⟩ : ∃ x, x = keptZ w4 ⟨4096, 1, 2147483647, 65535, v, 2147483647⟩ noFlt := ⟨_, rfl⟩
  rw [← hw5] at hk hb5
  have hw5' : w5 = (w4.alloc (.cells #[.int .i64 4096, .int .i64 1, .int .i64 2147483647, .int .i64 65535, .int .i64 v, .int .i64 2147483647] 23)).alloc (.cells #[.bool false, .bool false, .int .i64 0] 27) := hw5
  have HB5 := Lib.hid (HB4.out.trans (hb5.mono HB4.out.size))
  have HW5 := Lib.hid hw5'
  obtain ⟨g, hg⟩ : ∃ g, g = w4.heap.size := ⟨_, rfl⟩
  rw [← hg] at hk
  have HG := Lib.hid hg
  have HK5 := Lib.hid hk
  clear hb4 hb5 hw5 hw5' hg hk
  go_upto_region 4 with fail
  rw [← HW5.out, ← HG.out]
  go_wp2_with fail
  with_reducible refine (HFI.out w5).mono ?_
  rintro e w6 ⟨rfl, hb6⟩
  have HB6 := Lib.hid (HB5.out.trans (hb6.mono HB5.out.size))
  have HK6 := Lib.hid (HK5.out.up hb6)
  obtain ⟨w7, hw7⟩ : ∃ x, x = w6.alloc (.cells #[.int .i64 4096, .int .i64 1, .int .i64 2147483647, .int .i64 65535, .int .i64 16384, .int .i64 2147483647] 23) := ⟨_, rfl⟩
  have hr7 : w7.heap[w6.heap.size]? = some (.cells #[.int .i64 4096, .int .i64 1, .int .i64 2147483647, .int .i64 65535, .int .i64 16384, .int .i64 2147483647] 23 (0, 0)) := by rw [hw7]; exact heap_alloc_new w6 _
  have hb7 : Below w6.heap.size w6 w7 := by rw [hw7]; exact (Below.refl _ _).alloc (Nat.le_refl _) _
  obtain ⟨f, hf⟩ : ∃ g, g = w6.heap.size := ⟨_, rfl⟩
  have hgf : g + 1 < f := by rw [hf]; exact lt_of_heapZ HK6.out.2
  have hff : w.heap.size ≤ f := by rw [hf]; exact HB6.out.size
  rw [← hf] at hr7
  have HB7 := Lib.hid (HB6.out.trans (hb7.mono HB6.out.size))
  have HK7 := Lib.hid (HK6.out.up hb7)
  have HW7 := Lib.hid hw7
  have HF7 := Lib.hid hf
  have HR7 := Lib.hid hr7
  have HGF := Lib.hid (And.intro hgf hff)
  clear hb6 hb7 hw7 hr7 hf hgf hff
  go_upto_region 5 with fail
  rw [← HW7.out, ← HF7.out]
  have p4 : w7.cell? ⟨f, 4, none⟩ = some (.int .i64 16384) := cell_of_row _ f 4 _ 23 _ HR7.out
  have z4 : w7.frozen? ⟨f, 4, none⟩ = false := frozen_of_row _ f 4 _ 23 HR7.out
  obtain ⟨w8, hw8⟩ : ∃ x, x = w7.setCell ⟨f, 4, none⟩ (.int .i64 v) := ⟨_, rfl⟩
  have hr8 : w8.heap[f]? = some (.cells #[.int .i64 4096, .int .i64 1, .int .i64 2147483647, .int .i64 65535, .int .i64 v, .int .i64 2147483647] 23 (0, 0)) := by
    rw [hw8]
    have := heap_setCell_same w7 f 4 _ 23 (.int .i64 v) HR7.out
    simpa using this
  have hk8 : KZ w8 g ⟨4096, 1, 2147483647, 65535, v, 2147483647⟩ noFlt := by
    have hgf := HGF.out.1
    rw [hw8]
    exact ⟨(Below.heap_setCell w7 ⟨f, 4, none⟩ _ g (show g ≠ f by omega)).trans HK7.out.1, (Below.heap_setCell w7 ⟨f, 4, none⟩ _ (g + 1) (show g + 1 ≠ f by omega)).trans HK7.out.2⟩
  have HB8 := Lib.hid (show Below w.heap.size w w8 by rw [hw8]; exact HB7.out.setCell (p := ⟨f, 4, none⟩) HGF.out.2 _)
  have HK8 := Lib.hid hk8
  have HR8 := Lib.hid hr8
  have HW8 := Lib.hid hw8
  clear hw8 hr8 hk8
  go_upto_region 25 with fail
  rw [← HW8.out]
  clear p4 z4
  go_wp2_with fail
  with_reducible refine (HFST.out w8).mono ?_
  rintro e w9 ⟨rfl, hb9⟩
  have HB9 := Lib.hid (HB8.out.trans (hb9.mono HB8.out.size))
  obtain ⟨c0, c1, c2, c3, c4, c5⟩ := (HK8.out.up hb9).sets
  obtain ⟨d0, d1, d2⟩ := (HK8.out.up hb9).flt
  have hr9 := (hb9.block f (lt_of_heapZ HR8.out)).trans HR8.out
  have b0 : w9.cell? ⟨f, 0, none⟩ = some (.int .i64 4096) := cell_of_row _ f 0 _ 23 _ hr9
  have b1 : w9.cell? ⟨f, 1, none⟩ = some (.int .i64 1) := cell_of_row _ f 1 _ 23 _ hr9
  have b2 : w9.cell? ⟨f, 2, none⟩ = some (.int .i64 2147483647) := cell_of_row _ f 2 _ 23 _ hr9
  have b3 : w9.cell? ⟨f, 3, none⟩ = some (.int .i64 65535) := cell_of_row _ f 3 _ 23 _ hr9
  have b4 : w9.cell? ⟨f, 4, none⟩ = some (.int .i64 v) := cell_of_row _ f 4 _ 23 _ hr9
  have b5 : w9.cell? ⟨f, 5, none⟩ = some (.int .i64 2147483647) := cell_of_row _ f 5 _ 23 _ hr9
  clear hb9 hr9
  simp only [noFlt] at d0 d1 d2
  go_wp2
  go_ret
  exact ⟨by simp, HB9.out⟩
set_option maxRecDepth 100000 in
set_option maxHeartbeats 4000000 in
theorem e5b (v : Int) (w : World) (h0 : v < 16384) : Calls Try.prog 5 #[.int .i64 5, .int .i64 v] w (YesZ w) := by
  have HFST := Lib.hid fun (W : World) => first13_any W
  have HFI := Lib.hid fun (W : World) => zfirst_is W
  obtain ⟨m, hm⟩ : ∃ m, m = cap v := ⟨_, rfl⟩
  have om : (if 2147483647 < v then 2147483647 else v) = m := hm.symm
  have hap : apply firstSt [(5, v)] = (⟨0, 0, 0, 0, 0, 0⟩, ⟨true, true, 1⟩) := by
    simp [apply, one, zeroSt, h0]
  have HAP : Hid (∀ (A : Option Addr) (W : World), AtS W W.heap.size A [(5, v)] → Calls Try.prog 8 #[.agg #[.int .i64 4096, .int .i64 1, .int .i64 2147483647, .int .i64 65535, .int .i64 16384, .int .i64 2147483647], .slice A 1 1] W fun e w' => e = .returned (.tuple #[.agg #[.int .i64 0, .int .i64 0, .int .i64 0, .int .i64 0, .int .i64 0, .int .i64 0], .agg #[.bool true, .bool true, .int .i64 1]]) ∧ Below W.heap.size W w') := Lib.hid (fun A W h => by
    have := zapply_f firstSt A [(5, v)] 1 1 W h rfl (by omega)
    rw [hap] at this
    exact this)
  have k0 : v < 16384 := h0
  clear h0
  clear hap hm
  go_enter Try.func5, Try.ntmps5
  have HB0 := Lib.hid (Below.refl w.heap.size w)
  go_wp2_with fail
  with_reducible refine (HFST.out w).mono ?_
  rintro e w1 ⟨rfl, hb1⟩
  have HB1 := Lib.hid (HB0.out.trans (hb1.mono HB0.out.size))
  clear hb1
  go_wp2_with fail
  with_reducible refine (HFI.out w1).mono ?_
  rintro e w2 ⟨rfl, hb2⟩
  have HB2 := Lib.hid (HB1.out.trans (hb2.mono HB1.out.size))
  clear hb2
  obtain ⟨hat, hb3⟩ := atS_one w2 (5) v
  have HAT := Lib.hid hat
  have HB3 := Lib.hid (HB2.out.trans (hb3.mono HB2.out.size))
  clear hat hb3
  go_wp2_with fail
  with_reducible refine (HAP.out _ _ HAT.out).mono ?_
  rintro e w4 ⟨rfl, hb4⟩
  have HB4 := Lib.hid (HB3.out.trans (hb4.mono HB3.out.size))
  obtain ⟨hk, hb5⟩ := kz_of w4 ⟨0, 0, 0, 0, 0, 0⟩ ⟨true, true, 1⟩
  obtain ⟨w5, hw5⟩ : ∃ x, x = keptZ w4 ⟨0, 0, 0, 0, 0, 0⟩ ⟨true, true, 1⟩ := ⟨_, rfl⟩
  rw [← hw5] at hk hb5
  have hw5' : w5 = (w4.alloc (.cells #[.int .i64 0, .int .i64 0, .int .i64 0, .int .i64 0, .int .i64 0, .int .i64 0] 23)).alloc (.cells #[.bool true, .bool true, .int .i64 1] 27) := hw5
  have HB5 := Lib.hid (HB4.out.trans (hb5.mono HB4.out.size))
  have HW5 := Lib.hid hw5'
  obtain ⟨g, hg⟩ : ∃ g, g = w4.heap.size := ⟨_, rfl⟩
  rw [← hg] at hk
  have HG := Lib.hid hg
  have HK5 := Lib.hid hk
  clear hb4 hb5 hw5 hw5' hg hk
  go_upto_region 4 with fail
  rw [← HW5.out, ← HG.out]
  go_wp2_with fail
  with_reducible refine (HFI.out w5).mono ?_
  rintro e w6 ⟨rfl, hb6⟩
  have HB6 := Lib.hid (HB5.out.trans (hb6.mono HB5.out.size))
  have HK6 := Lib.hid (HK5.out.up hb6)
  obtain ⟨w7, hw7⟩ : ∃ x, x = w6.alloc (.cells #[.int .i64 4096, .int .i64 1, .int .i64 2147483647, .int .i64 65535, .int .i64 16384, .int .i64 2147483647] 23) := ⟨_, rfl⟩
  have hr7 : w7.heap[w6.heap.size]? = some (.cells #[.int .i64 4096, .int .i64 1, .int .i64 2147483647, .int .i64 65535, .int .i64 16384, .int .i64 2147483647] 23 (0, 0)) := by rw [hw7]; exact heap_alloc_new w6 _
  have hb7 : Below w6.heap.size w6 w7 := by rw [hw7]; exact (Below.refl _ _).alloc (Nat.le_refl _) _
  obtain ⟨f, hf⟩ : ∃ g, g = w6.heap.size := ⟨_, rfl⟩
  have hgf : g + 1 < f := by rw [hf]; exact lt_of_heapZ HK6.out.2
  have hff : w.heap.size ≤ f := by rw [hf]; exact HB6.out.size
  rw [← hf] at hr7
  have HB7 := Lib.hid (HB6.out.trans (hb7.mono HB6.out.size))
  have HK7 := Lib.hid (HK6.out.up hb7)
  have HW7 := Lib.hid hw7
  have HF7 := Lib.hid hf
  have HR7 := Lib.hid hr7
  have HGF := Lib.hid (And.intro hgf hff)
  clear hb6 hb7 hw7 hr7 hf hgf hff
  go_upto_region 5 with fail
  rw [← HW7.out, ← HF7.out]
  have p4 : w7.cell? ⟨f, 4, none⟩ = some (.int .i64 16384) := cell_of_row _ f 4 _ 23 _ HR7.out
  have z4 : w7.frozen? ⟨f, 4, none⟩ = false := frozen_of_row _ f 4 _ 23 HR7.out
  obtain ⟨w8, hw8⟩ : ∃ x, x = w7.setCell ⟨f, 4, none⟩ (.int .i64 v) := ⟨_, rfl⟩
  have hr8 : w8.heap[f]? = some (.cells #[.int .i64 4096, .int .i64 1, .int .i64 2147483647, .int .i64 65535, .int .i64 v, .int .i64 2147483647] 23 (0, 0)) := by
    rw [hw8]
    have := heap_setCell_same w7 f 4 _ 23 (.int .i64 v) HR7.out
    simpa using this
  have hk8 : KZ w8 g ⟨0, 0, 0, 0, 0, 0⟩ ⟨true, true, 1⟩ := by
    have hgf := HGF.out.1
    rw [hw8]
    exact ⟨(Below.heap_setCell w7 ⟨f, 4, none⟩ _ g (show g ≠ f by omega)).trans HK7.out.1, (Below.heap_setCell w7 ⟨f, 4, none⟩ _ (g + 1) (show g + 1 ≠ f by omega)).trans HK7.out.2⟩
  have HB8 := Lib.hid (show Below w.heap.size w w8 by rw [hw8]; exact HB7.out.setCell (p := ⟨f, 4, none⟩) HGF.out.2 _)
  have HK8 := Lib.hid hk8
  have HR8 := Lib.hid hr8
  have HW8 := Lib.hid hw8
  clear hw8 hr8 hk8
  go_upto_region 25 with fail
  rw [← HW8.out]
  clear p4 z4
  go_wp2_with fail
  with_reducible refine (HFST.out w8).mono ?_
  rintro e w9 ⟨rfl, hb9⟩
  have HB9 := Lib.hid (HB8.out.trans (hb9.mono HB8.out.size))
  obtain ⟨c0, c1, c2, c3, c4, c5⟩ := (HK8.out.up hb9).sets
  obtain ⟨d0, d1, d2⟩ := (HK8.out.up hb9).flt
  have hr9 := (hb9.block f (lt_of_heapZ HR8.out)).trans HR8.out
  have b0 : w9.cell? ⟨f, 0, none⟩ = some (.int .i64 4096) := cell_of_row _ f 0 _ 23 _ hr9
  have b1 : w9.cell? ⟨f, 1, none⟩ = some (.int .i64 1) := cell_of_row _ f 1 _ 23 _ hr9
  have b2 : w9.cell? ⟨f, 2, none⟩ = some (.int .i64 2147483647) := cell_of_row _ f 2 _ 23 _ hr9
  have b3 : w9.cell? ⟨f, 3, none⟩ = some (.int .i64 65535) := cell_of_row _ f 3 _ 23 _ hr9
  have b4 : w9.cell? ⟨f, 4, none⟩ = some (.int .i64 v) := cell_of_row _ f 4 _ 23 _ hr9
  have b5 : w9.cell? ⟨f, 5, none⟩ = some (.int .i64 2147483647) := cell_of_row _ f 5 _ 23 _ hr9
  clear hb9 hr9
  simp only [] at d0 d1 d2
  go_wp2
  go_ret
  exact ⟨by simp, HB9.out⟩
set_option maxRecDepth 100000 in
set_option maxHeartbeats 4000000 in
theorem e5c (v : Int) (w : World) (h0 : ¬ v < 16384) (h1 : 16777215 < v) : Calls Try.prog 5 #[.int .i64 5, .int .i64 v] w (YesZ w) := by
  have HFST := Lib.hid fun (W : World) => first13_any W
  have HFI := Lib.hid fun (W : World) => zfirst_is W
  obtain ⟨m, hm⟩ : ∃ m, m = cap v := ⟨_, rfl⟩
  have om : (if 2147483647 < v then 2147483647 else v) = m := hm.symm
  have hap : apply firstSt [(5, v)] = (⟨0, 0, 0, 0, 0, 0⟩, ⟨true, true, 1⟩) := by
    simp [apply, one, zeroSt, h0, h1]
  have HAP : Hid (∀ (A : Option Addr) (W : World), AtS W W.heap.size A [(5, v)] → Calls Try.prog 8 #[.agg #[.int .i64 4096, .int .i64 1, .int .i64 2147483647, .int .i64 65535, .int .i64 16384, .int .i64 2147483647], .slice A 1 1] W fun e w' => e = .returned (.tuple #[.agg #[.int .i64 0, .int .i64 0, .int .i64 0, .int .i64 0, .int .i64 0, .int .i64 0], .agg #[.bool true, .bool true, .int .i64 1]]) ∧ Below W.heap.size W w') := Lib.hid (fun A W h => by
    have := zapply_f firstSt A [(5, v)] 1 1 W h rfl (by omega)
    rw [hap] at this
    exact this)
  have k0 : ¬ v < 16384 := h0
  have k1 : 16777216 ≤ v := by omega
  clear h0 h1
  clear hap hm
  go_enter Try.func5, Try.ntmps5
  have HB0 := Lib.hid (Below.refl w.heap.size w)
  go_wp2_with fail
  with_reducible refine (HFST.out w).mono ?_
  rintro e w1 ⟨rfl, hb1⟩
  have HB1 := Lib.hid (HB0.out.trans (hb1.mono HB0.out.size))
  clear hb1
  go_wp2_with fail
  with_reducible refine (HFI.out w1).mono ?_
  rintro e w2 ⟨rfl, hb2⟩
  have HB2 := Lib.hid (HB1.out.trans (hb2.mono HB1.out.size))
  clear hb2
  obtain ⟨hat, hb3⟩ := atS_one w2 (5) v
  have HAT := Lib.hid hat
  have HB3 := Lib.hid (HB2.out.trans (hb3.mono HB2.out.size))
  clear hat hb3
  go_wp2_with fail
  with_reducible refine (HAP.out _ _ HAT.out).mono ?_
  rintro e w4 ⟨rfl, hb4⟩
  have HB4 := Lib.hid (HB3.out.trans (hb4.mono HB3.out.size))
  obtain ⟨hk, hb5⟩ := kz_of w4 ⟨0, 0, 0, 0, 0, 0⟩ ⟨true, true, 1⟩
  obtain ⟨w5, hw5⟩ : ∃ x, x = keptZ w4 ⟨0, 0, 0, 0, 0, 0⟩ ⟨true, true, 1⟩ := ⟨_, rfl⟩
  rw [← hw5] at hk hb5
  have hw5' : w5 = (w4.alloc (.cells #[.int .i64 0, .int .i64 0, .int .i64 0, .int .i64 0, .int .i64 0, .int .i64 0] 23)).alloc (.cells #[.bool true, .bool true, .int .i64 1] 27) := hw5
  have HB5 := Lib.hid (HB4.out.trans (hb5.mono HB4.out.size))
  have HW5 := Lib.hid hw5'
  obtain ⟨g, hg⟩ : ∃ g, g = w4.heap.size := ⟨_, rfl⟩
  rw [← hg] at hk
  have HG := Lib.hid hg
  have HK5 := Lib.hid hk
  clear hb4 hb5 hw5 hw5' hg hk
  go_upto_region 4 with fail
  rw [← HW5.out, ← HG.out]
  go_wp2_with fail
  with_reducible refine (HFI.out w5).mono ?_
  rintro e w6 ⟨rfl, hb6⟩
  have HB6 := Lib.hid (HB5.out.trans (hb6.mono HB5.out.size))
  have HK6 := Lib.hid (HK5.out.up hb6)
  obtain ⟨w7, hw7⟩ : ∃ x, x = w6.alloc (.cells #[.int .i64 4096, .int .i64 1, .int .i64 2147483647, .int .i64 65535, .int .i64 16384, .int .i64 2147483647] 23) := ⟨_, rfl⟩
  have hr7 : w7.heap[w6.heap.size]? = some (.cells #[.int .i64 4096, .int .i64 1, .int .i64 2147483647, .int .i64 65535, .int .i64 16384, .int .i64 2147483647] 23 (0, 0)) := by rw [hw7]; exact heap_alloc_new w6 _
  have hb7 : Below w6.heap.size w6 w7 := by rw [hw7]; exact (Below.refl _ _).alloc (Nat.le_refl _) _
  obtain ⟨f, hf⟩ : ∃ g, g = w6.heap.size := ⟨_, rfl⟩
  have hgf : g + 1 < f := by rw [hf]; exact lt_of_heapZ HK6.out.2
  have hff : w.heap.size ≤ f := by rw [hf]; exact HB6.out.size
  rw [← hf] at hr7
  have HB7 := Lib.hid (HB6.out.trans (hb7.mono HB6.out.size))
  have HK7 := Lib.hid (HK6.out.up hb7)
  have HW7 := Lib.hid hw7
  have HF7 := Lib.hid hf
  have HR7 := Lib.hid hr7
  have HGF := Lib.hid (And.intro hgf hff)
  clear hb6 hb7 hw7 hr7 hf hgf hff
  go_upto_region 5 with fail
  rw [← HW7.out, ← HF7.out]
  have p4 : w7.cell? ⟨f, 4, none⟩ = some (.int .i64 16384) := cell_of_row _ f 4 _ 23 _ HR7.out
  have z4 : w7.frozen? ⟨f, 4, none⟩ = false := frozen_of_row _ f 4 _ 23 HR7.out
  obtain ⟨w8, hw8⟩ : ∃ x, x = w7.setCell ⟨f, 4, none⟩ (.int .i64 v) := ⟨_, rfl⟩
  have hr8 : w8.heap[f]? = some (.cells #[.int .i64 4096, .int .i64 1, .int .i64 2147483647, .int .i64 65535, .int .i64 v, .int .i64 2147483647] 23 (0, 0)) := by
    rw [hw8]
    have := heap_setCell_same w7 f 4 _ 23 (.int .i64 v) HR7.out
    simpa using this
  have hk8 : KZ w8 g ⟨0, 0, 0, 0, 0, 0⟩ ⟨true, true, 1⟩ := by
    have hgf := HGF.out.1
    rw [hw8]
    exact ⟨(Below.heap_setCell w7 ⟨f, 4, none⟩ _ g (show g ≠ f by omega)).trans HK7.out.1, (Below.heap_setCell w7 ⟨f, 4, none⟩ _ (g + 1) (show g + 1 ≠ f by omega)).trans HK7.out.2⟩
  have HB8 := Lib.hid (show Below w.heap.size w w8 by rw [hw8]; exact HB7.out.setCell (p := ⟨f, 4, none⟩) HGF.out.2 _)
  have HK8 := Lib.hid hk8
  have HR8 := Lib.hid hr8
  have HW8 := Lib.hid hw8
  clear hw8 hr8 hk8
  go_upto_region 25 with fail
  rw [← HW8.out]
  clear p4 z4
  go_wp2_with fail
  with_reducible refine (HFST.out w8).mono ?_
  rintro e w9 ⟨rfl, hb9⟩
  have HB9 := Lib.hid (HB8.out.trans (hb9.mono HB8.out.size))
  obtain ⟨c0, c1, c2, c3, c4, c5⟩ := (HK8.out.up hb9).sets
  obtain ⟨d0, d1, d2⟩ := (HK8.out.up hb9).flt
  have hr9 := (hb9.block f (lt_of_heapZ HR8.out)).trans HR8.out
  have b0 : w9.cell? ⟨f, 0, none⟩ = some (.int .i64 4096) := cell_of_row _ f 0 _ 23 _ hr9
  have b1 : w9.cell? ⟨f, 1, none⟩ = some (.int .i64 1) := cell_of_row _ f 1 _ 23 _ hr9
  have b2 : w9.cell? ⟨f, 2, none⟩ = some (.int .i64 2147483647) := cell_of_row _ f 2 _ 23 _ hr9
  have b3 : w9.cell? ⟨f, 3, none⟩ = some (.int .i64 65535) := cell_of_row _ f 3 _ 23 _ hr9
  have b4 : w9.cell? ⟨f, 4, none⟩ = some (.int .i64 v) := cell_of_row _ f 4 _ 23 _ hr9
  have b5 : w9.cell? ⟨f, 5, none⟩ = some (.int .i64 2147483647) := cell_of_row _ f 5 _ 23 _ hr9
  clear hb9 hr9
  simp only [] at d0 d1 d2
  go_wp2
  go_ret
  exact ⟨by simp, HB9.out⟩
set_option maxRecDepth 100000 in
set_option maxHeartbeats 4000000 in
theorem e6 (v : Int) (w : World) : Calls Try.prog 5 #[.int .i64 6, .int .i64 v] w (YesZ w) := by
  have HFST := Lib.hid fun (W : World) => first13_any W
  have HFI := Lib.hid fun (W : World) => zfirst_is W
  obtain ⟨m, hm⟩ : ∃ m, m = cap v := ⟨_, rfl⟩
  have om : (if 2147483647 < v then 2147483647 else v) = m := hm.symm
  have hap : apply firstSt [(6, v)] = (⟨4096, 1, 2147483647, 65535, 16384, m⟩, noFlt) := by
    simp [apply, one, firstSt, noFlt, hm]
  have HAP : Hid (∀ (A : Option Addr) (W : World), AtS W W.heap.size A [(6, v)] → Calls Try.prog 8 #[.agg #[.int .i64 4096, .int .i64 1, .int .i64 2147483647, .int .i64 65535, .int .i64 16384, .int .i64 2147483647], .slice A 1 1] W fun e w' => e = .returned (.tuple #[.agg #[.int .i64 4096, .int .i64 1, .int .i64 2147483647, .int .i64 65535, .int .i64 16384, .int .i64 m], .agg #[.bool false, .bool false, .int .i64 0]]) ∧ Below W.heap.size W w') := Lib.hid (fun A W h => by
    have := zapply_f firstSt A [(6, v)] 1 1 W h rfl (by omega)
    rw [hap] at this
    exact this)
  clear hap hm
  go_enter Try.func5, Try.ntmps5
  have HB0 := Lib.hid (Below.refl w.heap.size w)
  go_wp2_with fail
  with_reducible refine (HFST.out w).mono ?_
  rintro e w1 ⟨rfl, hb1⟩
  have HB1 := Lib.hid (HB0.out.trans (hb1.mono HB0.out.size))
  clear hb1
  go_wp2_with fail
  with_reducible refine (HFI.out w1).mono ?_
  rintro e w2 ⟨rfl, hb2⟩
  have HB2 := Lib.hid (HB1.out.trans (hb2.mono HB1.out.size))
  clear hb2
  obtain ⟨hat, hb3⟩ := atS_one w2 (6) v
  have HAT := Lib.hid hat
  have HB3 := Lib.hid (HB2.out.trans (hb3.mono HB2.out.size))
  clear hat hb3
  go_wp2_with fail
  with_reducible refine (HAP.out _ _ HAT.out).mono ?_
  rintro e w4 ⟨rfl, hb4⟩
  have HB4 := Lib.hid (HB3.out.trans (hb4.mono HB3.out.size))
  obtain ⟨hk, hb5⟩ := kz_of w4 ⟨4096, 1, 2147483647, 65535, 16384, m⟩ noFlt
  obtain ⟨w5, hw5⟩ : ∃ x, x = keptZ w4 ⟨4096, 1, 2147483647, 65535, 16384, m⟩ noFlt := ⟨_, rfl⟩
  rw [← hw5] at hk hb5
  have hw5' : w5 = (w4.alloc (.cells #[.int .i64 4096, .int .i64 1, .int .i64 2147483647, .int .i64 65535, .int .i64 16384, .int .i64 m] 23)).alloc (.cells #[.bool false, .bool false, .int .i64 0] 27) := hw5
  have HB5 := Lib.hid (HB4.out.trans (hb5.mono HB4.out.size))
  have HW5 := Lib.hid hw5'
  obtain ⟨g, hg⟩ : ∃ g, g = w4.heap.size := ⟨_, rfl⟩
  rw [← hg] at hk
  have HG := Lib.hid hg
  have HK5 := Lib.hid hk
  clear hb4 hb5 hw5 hw5' hg hk
  go_upto_region 4 with fail
  rw [← HW5.out, ← HG.out]
  go_wp2_with fail
  with_reducible refine (HFI.out w5).mono ?_
  rintro e w6 ⟨rfl, hb6⟩
  have HB6 := Lib.hid (HB5.out.trans (hb6.mono HB5.out.size))
  have HK6 := Lib.hid (HK5.out.up hb6)
  obtain ⟨w7, hw7⟩ : ∃ x, x = w6.alloc (.cells #[.int .i64 4096, .int .i64 1, .int .i64 2147483647, .int .i64 65535, .int .i64 16384, .int .i64 2147483647] 23) := ⟨_, rfl⟩
  have hr7 : w7.heap[w6.heap.size]? = some (.cells #[.int .i64 4096, .int .i64 1, .int .i64 2147483647, .int .i64 65535, .int .i64 16384, .int .i64 2147483647] 23 (0, 0)) := by rw [hw7]; exact heap_alloc_new w6 _
  have hb7 : Below w6.heap.size w6 w7 := by rw [hw7]; exact (Below.refl _ _).alloc (Nat.le_refl _) _
  obtain ⟨f, hf⟩ : ∃ g, g = w6.heap.size := ⟨_, rfl⟩
  have hgf : g + 1 < f := by rw [hf]; exact lt_of_heapZ HK6.out.2
  have hff : w.heap.size ≤ f := by rw [hf]; exact HB6.out.size
  rw [← hf] at hr7
  have HB7 := Lib.hid (HB6.out.trans (hb7.mono HB6.out.size))
  have HK7 := Lib.hid (HK6.out.up hb7)
  have HW7 := Lib.hid hw7
  have HF7 := Lib.hid hf
  have HR7 := Lib.hid hr7
  have HGF := Lib.hid (And.intro hgf hff)
  clear hb6 hb7 hw7 hr7 hf hgf hff
  go_upto_region 5 with fail
  rw [← HW7.out, ← HF7.out]
  have p5 : w7.cell? ⟨f, 5, none⟩ = some (.int .i64 2147483647) := cell_of_row _ f 5 _ 23 _ HR7.out
  have z5 : w7.frozen? ⟨f, 5, none⟩ = false := frozen_of_row _ f 5 _ 23 HR7.out
  obtain ⟨w8, hw8⟩ : ∃ x, x = w7.setCell ⟨f, 5, none⟩ (.int .i64 m) := ⟨_, rfl⟩
  have hr8 : w8.heap[f]? = some (.cells #[.int .i64 4096, .int .i64 1, .int .i64 2147483647, .int .i64 65535, .int .i64 16384, .int .i64 m] 23 (0, 0)) := by
    rw [hw8]
    have := heap_setCell_same w7 f 5 _ 23 (.int .i64 m) HR7.out
    simpa using this
  have hk8 : KZ w8 g ⟨4096, 1, 2147483647, 65535, 16384, m⟩ noFlt := by
    have hgf := HGF.out.1
    rw [hw8]
    exact ⟨(Below.heap_setCell w7 ⟨f, 5, none⟩ _ g (show g ≠ f by omega)).trans HK7.out.1, (Below.heap_setCell w7 ⟨f, 5, none⟩ _ (g + 1) (show g + 1 ≠ f by omega)).trans HK7.out.2⟩
  have HB8 := Lib.hid (show Below w.heap.size w w8 by rw [hw8]; exact HB7.out.setCell (p := ⟨f, 5, none⟩) HGF.out.2 _)
  have HK8 := Lib.hid hk8
  have HR8 := Lib.hid hr8
  have HW8 := Lib.hid hw8
  clear hw8 hr8 hk8
  go_upto_region 25 with fail
  rw [← HW8.out]
  clear p5 z5
  go_wp2_with fail
  with_reducible refine (HFST.out w8).mono ?_
  rintro e w9 ⟨rfl, hb9⟩
  have HB9 := Lib.hid (HB8.out.trans (hb9.mono HB8.out.size))
  obtain ⟨c0, c1, c2, c3, c4, c5⟩ := (HK8.out.up hb9).sets
  obtain ⟨d0, d1, d2⟩ := (HK8.out.up hb9).flt
  have hr9 := (hb9.block f (lt_of_heapZ HR8.out)).trans HR8.out
  have b0 : w9.cell? ⟨f, 0, none⟩ = some (.int .i64 4096) := cell_of_row _ f 0 _ 23 _ hr9
  have b1 : w9.cell? ⟨f, 1, none⟩ = some (.int .i64 1) := cell_of_row _ f 1 _ 23 _ hr9
  have b2 : w9.cell? ⟨f, 2, none⟩ = some (.int .i64 2147483647) := cell_of_row _ f 2 _ 23 _ hr9
  have b3 : w9.cell? ⟨f, 3, none⟩ = some (.int .i64 65535) := cell_of_row _ f 3 _ 23 _ hr9
  have b4 : w9.cell? ⟨f, 4, none⟩ = some (.int .i64 16384) := cell_of_row _ f 4 _ 23 _ hr9
  have b5 : w9.cell? ⟨f, 5, none⟩ = some (.int .i64 m) := cell_of_row _ f 5 _ 23 _ hr9
  clear hb9 hr9
  simp only [noFlt] at d0 d1 d2
  go_wp2
  go_ret
  exact ⟨by simp, HB9.out⟩
set_option maxRecDepth 100000 in
set_option maxHeartbeats 4000000 in
theorem eo (id v : Int) (w : World) (h1 : id ≠ 1) (h2 : id ≠ 2) (h3 : id ≠ 3) (h4 : id ≠ 4) (h5 : id ≠ 5) (h6 : id ≠ 6) : Calls Try.prog 5 #[.int .i64 id, .int .i64 v] w (YesZ w) := by
  have HFST := Lib.hid fun (W : World) => first13_any W
  have HFI := Lib.hid fun (W : World) => zfirst_is W
  obtain ⟨m, hm⟩ : ∃ m, m = cap v := ⟨_, rfl⟩
  have om : (if 2147483647 < v then 2147483647 else v) = m := hm.symm
  have hap : apply firstSt [(id, v)] = (⟨4096, 1, 2147483647, 65535, 16384, 2147483647⟩, noFlt) := by
    simp [apply, one, firstSt, noFlt, h1, h2, h3, h4, h5, h6]
  have HAP : Hid (∀ (A : Option Addr) (W : World), AtS W W.heap.size A [(id, v)] → Calls Try.prog 8 #[.agg #[.int .i64 4096, .int .i64 1, .int .i64 2147483647, .int .i64 65535, .int .i64 16384, .int .i64 2147483647], .slice A 1 1] W fun e w' => e = .returned (.tuple #[.agg #[.int .i64 4096, .int .i64 1, .int .i64 2147483647, .int .i64 65535, .int .i64 16384, .int .i64 2147483647], .agg #[.bool false, .bool false, .int .i64 0]]) ∧ Below W.heap.size W w') := Lib.hid (fun A W h => by
    have := zapply_f firstSt A [(id, v)] 1 1 W h rfl (by omega)
    rw [hap] at this
    exact this)
  have q1 : (id == 1) = false := by rw [beq_eq_false_iff_ne]; exact h1
  have q2 : (id == 2) = false := by rw [beq_eq_false_iff_ne]; exact h2
  have q3 : (id == 3) = false := by rw [beq_eq_false_iff_ne]; exact h3
  have q4 : (id == 4) = false := by rw [beq_eq_false_iff_ne]; exact h4
  have q5 : (id == 5) = false := by rw [beq_eq_false_iff_ne]; exact h5
  have q6 : (id == 6) = false := by rw [beq_eq_false_iff_ne]; exact h6
  clear h1 h2 h3 h4 h5 h6
  clear hap hm
  go_enter Try.func5, Try.ntmps5
  have HB0 := Lib.hid (Below.refl w.heap.size w)
  go_wp2_with fail
  with_reducible refine (HFST.out w).mono ?_
  rintro e w1 ⟨rfl, hb1⟩
  have HB1 := Lib.hid (HB0.out.trans (hb1.mono HB0.out.size))
  clear hb1
  go_wp2_with fail
  with_reducible refine (HFI.out w1).mono ?_
  rintro e w2 ⟨rfl, hb2⟩
  have HB2 := Lib.hid (HB1.out.trans (hb2.mono HB1.out.size))
  clear hb2
  obtain ⟨hat, hb3⟩ := atS_one w2 id v
  have HAT := Lib.hid hat
  have HB3 := Lib.hid (HB2.out.trans (hb3.mono HB2.out.size))
  clear hat hb3
  go_wp2_with fail
  with_reducible refine (HAP.out _ _ HAT.out).mono ?_
  rintro e w4 ⟨rfl, hb4⟩
  have HB4 := Lib.hid (HB3.out.trans (hb4.mono HB3.out.size))
  obtain ⟨hk, hb5⟩ := kz_of w4 ⟨4096, 1, 2147483647, 65535, 16384, 2147483647⟩ noFlt
  obtain ⟨w5, hw5⟩ : ∃ x, x = keptZ w4 ⟨4096, 1, 2147483647, 65535, 16384, 2147483647⟩ noFlt := ⟨_, rfl⟩
  rw [← hw5] at hk hb5
  have hw5' : w5 = (w4.alloc (.cells #[.int .i64 4096, .int .i64 1, .int .i64 2147483647, .int .i64 65535, .int .i64 16384, .int .i64 2147483647] 23)).alloc (.cells #[.bool false, .bool false, .int .i64 0] 27) := hw5
  have HB5 := Lib.hid (HB4.out.trans (hb5.mono HB4.out.size))
  have HW5 := Lib.hid hw5'
  obtain ⟨g, hg⟩ : ∃ g, g = w4.heap.size := ⟨_, rfl⟩
  rw [← hg] at hk
  have HG := Lib.hid hg
  have HK5 := Lib.hid hk
  clear hb4 hb5 hw5 hw5' hg hk
  go_upto_region 4 with fail
  rw [← HW5.out, ← HG.out]
  go_wp2_with fail
  with_reducible refine (HFI.out w5).mono ?_
  rintro e w6 ⟨rfl, hb6⟩
  have HB6 := Lib.hid (HB5.out.trans (hb6.mono HB5.out.size))
  have HK6 := Lib.hid (HK5.out.up hb6)
  obtain ⟨w7, hw7⟩ : ∃ x, x = w6.alloc (.cells #[.int .i64 4096, .int .i64 1, .int .i64 2147483647, .int .i64 65535, .int .i64 16384, .int .i64 2147483647] 23) := ⟨_, rfl⟩
  have hr7 : w7.heap[w6.heap.size]? = some (.cells #[.int .i64 4096, .int .i64 1, .int .i64 2147483647, .int .i64 65535, .int .i64 16384, .int .i64 2147483647] 23 (0, 0)) := by rw [hw7]; exact heap_alloc_new w6 _
  have hb7 : Below w6.heap.size w6 w7 := by rw [hw7]; exact (Below.refl _ _).alloc (Nat.le_refl _) _
  obtain ⟨f, hf⟩ : ∃ g, g = w6.heap.size := ⟨_, rfl⟩
  have hgf : g + 1 < f := by rw [hf]; exact lt_of_heapZ HK6.out.2
  have hff : w.heap.size ≤ f := by rw [hf]; exact HB6.out.size
  rw [← hf] at hr7
  have HB7 := Lib.hid (HB6.out.trans (hb7.mono HB6.out.size))
  have HK7 := Lib.hid (HK6.out.up hb7)
  have HW7 := Lib.hid hw7
  have HF7 := Lib.hid hf
  have HR7 := Lib.hid hr7
  have HGF := Lib.hid (And.intro hgf hff)
  clear hb6 hb7 hw7 hr7 hf hgf hff
  go_upto_region 5 with fail
  rw [← HW7.out, ← HF7.out]
  have HB8 := HB7
  have HK8 := HK7
  have HR8 := HR7
  go_wp2_with fail
  with_reducible refine (HFST.out w7).mono ?_
  rintro e w9 ⟨rfl, hb9⟩
  have HB9 := Lib.hid (HB8.out.trans (hb9.mono HB8.out.size))
  obtain ⟨c0, c1, c2, c3, c4, c5⟩ := (HK8.out.up hb9).sets
  obtain ⟨d0, d1, d2⟩ := (HK8.out.up hb9).flt
  have hr9 := (hb9.block f (lt_of_heapZ HR8.out)).trans HR8.out
  have b0 : w9.cell? ⟨f, 0, none⟩ = some (.int .i64 4096) := cell_of_row _ f 0 _ 23 _ hr9
  have b1 : w9.cell? ⟨f, 1, none⟩ = some (.int .i64 1) := cell_of_row _ f 1 _ 23 _ hr9
  have b2 : w9.cell? ⟨f, 2, none⟩ = some (.int .i64 2147483647) := cell_of_row _ f 2 _ 23 _ hr9
  have b3 : w9.cell? ⟨f, 3, none⟩ = some (.int .i64 65535) := cell_of_row _ f 3 _ 23 _ hr9
  have b4 : w9.cell? ⟨f, 4, none⟩ = some (.int .i64 16384) := cell_of_row _ f 4 _ 23 _ hr9
  have b5 : w9.cell? ⟨f, 5, none⟩ = some (.int .i64 2147483647) := cell_of_row _ f 5 _ 23 _ hr9
  clear hb9 hr9
  simp only [noFlt] at d0 d1 d2
  go_wp2
  go_ret
  exact ⟨by simp, HB9.out⟩
theorem walk_any (id v : Int) (w : World) : Calls Try.prog 5 #[.int .i64 id, .int .i64 v] w (YesZ w) := by
  by_cases h1 : id = 1
  · subst h1; exact e1 v w
  by_cases h2 : id = 2
  · subst h2
    by_cases h : v < 0 ∨ 1 < v
    · exact e2c v w h
    · by_cases h0 : v = 0
      · exact e2a v w h0
      · exact e2b v w (by omega)
  by_cases h3 : id = 3
  · subst h3; exact e3 v w
  by_cases h4 : id = 4
  · subst h4
    by_cases h : 2147483647 < v
    · exact e4b v w h
    · exact e4a v w h
  by_cases h5 : id = 5
  · subst h5
    by_cases h0 : v < 16384
    · exact e5b v w h0
    · by_cases h1' : 16777215 < v
      · exact e5c v w h0 h1'
      · exact e5a v w h0 h1'
  by_cases h6 : id = 6
  · subst h6; exact e6 v w
  exact eo id v w h1 h2 h3 h4 h5 h6
end setsEach
end Go.Proofs.Ytkjdjicchmfljaa
