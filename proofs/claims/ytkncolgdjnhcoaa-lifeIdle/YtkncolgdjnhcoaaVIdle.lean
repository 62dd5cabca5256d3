/- The walk of LifeIdle. -/
import Derived.Test.YtkncolgdjnhcoaaVFew
namespace Go.Proofs.Ytkncolgdjnhcoaa
open Go.RowKit Lf

namespace lifeIdle
set_option maxRecDepth 100000 in
set_option maxHeartbeats 4000000 in
theorem out_low (k : Int) (e : Bool) (w : World) (h : k < 0) : Calls Try.prog 6 #[.int .i64 k, .bool e] w (YesV w) := by
  have HFST := Lib.hid fun (W : World) => first14_any W
  have hr : recv 1 k e = ⟨1, false, false, 0⟩ := by unfold recv; rw [if_neg (by omega)]; rfl
  have HC := Lib.hid fun (W : World) => vrecv_is hr W
  clear hr
  go_enter Try.func6, Try.ntmps6
  have HB0 := Lib.hid (Below.refl w.heap.size w)
  go_wp2_with fail
  with_reducible refine (HFST.out w).mono ?_
  rintro e w1 ⟨rfl, hb1⟩
  have HB1 := Lib.hid (HB0.out.trans (hb1.mono HB0.out.size))
  clear hb1
  go_wp2_with fail
  with_reducible refine (HC.out w1).mono ?_
  rintro e w2 ⟨rfl, hb2⟩
  have HB2 := Lib.hid (HB1.out.trans (hb2.mono HB1.out.size))
  clear hb2
  obtain ⟨hk, hb⟩ := kf_of w2 false false 0
  obtain ⟨w3, hw⟩ : ∃ x, x = w2.alloc (.cells #[.bool false, .bool false, .int .i64 0] 24) := ⟨_, rfl⟩
  obtain ⟨g3, hg⟩ : ∃ g, g = w2.heap.size := ⟨_, rfl⟩
  rw [← hw, ← hg] at hk
  rw [← hw] at hb
  have HB3 := Lib.hid (HB2.out.trans (hb.mono HB2.out.size))
  have x_3 := Lib.hid hk
  have HW3 := Lib.hid hw
  have HG3 := Lib.hid hg
  clear hk hb hw hg
  go_upto_region 5 with fail
  rw [← HW3.out, ← HG3.out]
  clear HW3 HG3
  go_wp2_with fail
  with_reducible refine (HFST.out w3).mono ?_
  rintro e w4 ⟨rfl, hb4⟩
  have HB4 := Lib.hid (HB3.out.trans (hb4.mono HB3.out.size))
  have x_4 := Lib.hid (x_3.out.up hb4)
  clear x_3
  clear hb4
  obtain ⟨x0, x1, x2⟩ := x_4.out.cells
  go_wp2_with fail
  go_ret
  exact ⟨rfl, HB4.out⟩
set_option maxRecDepth 100000 in
set_option maxHeartbeats 4000000 in
theorem out_high (k : Int) (e : Bool) (w : World) (h0 : ¬ k < 0) (h : 9 < k) : Calls Try.prog 6 #[.int .i64 k, .bool e] w (YesV w) := by
  have HFST := Lib.hid fun (W : World) => first14_any W
  have hr : recv 1 k e = ⟨1, false, false, 0⟩ := by unfold recv; rw [if_neg (by omega)]; rfl
  have HC := Lib.hid fun (W : World) => vrecv_is hr W
  clear hr
  go_enter Try.func6, Try.ntmps6
  have HB0 := Lib.hid (Below.refl w.heap.size w)
  go_wp2_with fail
  with_reducible refine (HFST.out w).mono ?_
  rintro e w1 ⟨rfl, hb1⟩
  have HB1 := Lib.hid (HB0.out.trans (hb1.mono HB0.out.size))
  clear hb1
  go_wp2_with fail
  with_reducible refine (HC.out w1).mono ?_
  rintro e w2 ⟨rfl, hb2⟩
  have HB2 := Lib.hid (HB1.out.trans (hb2.mono HB1.out.size))
  clear hb2
  obtain ⟨hk, hb⟩ := kf_of w2 false false 0
  obtain ⟨w3, hw⟩ : ∃ x, x = w2.alloc (.cells #[.bool false, .bool false, .int .i64 0] 24) := ⟨_, rfl⟩
  obtain ⟨g3, hg⟩ : ∃ g, g = w2.heap.size := ⟨_, rfl⟩
  rw [← hw, ← hg] at hk
  rw [← hw] at hb
  have HB3 := Lib.hid (HB2.out.trans (hb.mono HB2.out.size))
  have x_3 := Lib.hid hk
  have HW3 := Lib.hid hw
  have HG3 := Lib.hid hg
  clear hk hb hw hg
  go_upto_region 5 with fail
  rw [← HW3.out, ← HG3.out]
  clear HW3 HG3
  go_wp2_with fail
  with_reducible refine (HFST.out w3).mono ?_
  rintro e w4 ⟨rfl, hb4⟩
  have HB4 := Lib.hid (HB3.out.trans (hb4.mono HB3.out.size))
  have x_4 := Lib.hid (x_3.out.up hb4)
  clear x_3
  clear hb4
  obtain ⟨x0, x1, x2⟩ := x_4.out.cells
  go_wp2_with fail
  go_ret
  exact ⟨rfl, HB4.out⟩
set_option maxRecDepth 100000 in
set_option maxHeartbeats 4000000 in
theorem way0 (e : Bool) (w : World) : Calls Try.prog 6 #[.int .i64 0, .bool e] w (YesV w) := by
  have HFST := Lib.hid fun (W : World) => first14_any W
  obtain ⟨a0, r0⟩ : ∃ a, recv 0 0 e = ⟨a, true, true, 1⟩ := by cases e <;> exact ⟨_, rfl⟩
  have HR0 := Lib.hid fun (W : World) => vrecv_is r0 W
  obtain ⟨a4, r4⟩ : ∃ a, recv 4 0 e = ⟨a, true, true, 5⟩ := by cases e <;> exact ⟨_, rfl⟩
  have HR4 := Lib.hid fun (W : World) => vrecv_is r4 W
  obtain ⟨a5, r5⟩ : ∃ a, recv 5 0 e = ⟨a, false, false, 0⟩ := by cases e <;> exact ⟨_, rfl⟩
  have HR5 := Lib.hid fun (W : World) => vrecv_is r5 W
  obtain ⟨a2, r2⟩ : ∃ a, recv 2 0 e = ⟨a, true, false, 5⟩ := by cases e <;> exact ⟨_, rfl⟩
  have HR2 := Lib.hid fun (W : World) => vrecv_is r2 W
  have q0 : send 0 0 e = (0, false) := by cases e <;> rfl
  have HS0 := Lib.hid fun (W : World) => vsend_is q0 W
  have q4 : send 4 0 e = (4, false) := by cases e <;> rfl
  have HS4 := Lib.hid fun (W : World) => vsend_is q4 W
  clear r0 r4 r5 r2 q0 q4
  go_enter Try.func6, Try.ntmps6
  have HB0 := Lib.hid (Below.refl w.heap.size w)
  go_wp2_with fail
  with_reducible refine (HFST.out w).mono ?_
  rintro e w1 ⟨rfl, hb1⟩
  have HB1 := Lib.hid (HB0.out.trans (hb1.mono HB0.out.size))
  clear hb1
  go_wp2_with fail
  with_reducible refine (HR0.out w1).mono ?_
  rintro e w2 ⟨rfl, hb2⟩
  have HB2 := Lib.hid (HB1.out.trans (hb2.mono HB1.out.size))
  clear hb2
  obtain ⟨hk, hb⟩ := kf_of w2 true true 1
  obtain ⟨w3, hw⟩ : ∃ x, x = w2.alloc (.cells #[.bool true, .bool true, .int .i64 1] 24) := ⟨_, rfl⟩
  obtain ⟨g3, hg⟩ : ∃ g, g = w2.heap.size := ⟨_, rfl⟩
  rw [← hw, ← hg] at hk
  rw [← hw] at hb
  have HB3 := Lib.hid (HB2.out.trans (hb.mono HB2.out.size))
  have x_3 := Lib.hid hk
  have HW3 := Lib.hid hw
  have HG3 := Lib.hid hg
  clear hk hb hw hg
  go_upto_region 9 with fail
  rw [← HW3.out, ← HG3.out]
  clear HW3 HG3
  go_wp2_with fail
  with_reducible refine (HR4.out w3).mono ?_
  rintro e w4 ⟨rfl, hb4⟩
  have HB4 := Lib.hid (HB3.out.trans (hb4.mono HB3.out.size))
  have x_4 := Lib.hid (x_3.out.up hb4)
  clear x_3
  clear hb4
  obtain ⟨hk, hb⟩ := kf_of w4 true true 5
  obtain ⟨w5, hw⟩ : ∃ x, x = w4.alloc (.cells #[.bool true, .bool true, .int .i64 5] 24) := ⟨_, rfl⟩
  obtain ⟨g5, hg⟩ : ∃ g, g = w4.heap.size := ⟨_, rfl⟩
  rw [← hw, ← hg] at hk
  rw [← hw] at hb
  have HB5 := Lib.hid (HB4.out.trans (hb.mono HB4.out.size))
  have x_5 := Lib.hid (x_4.out.up hb)
  clear x_4
  have y_5 := Lib.hid hk
  have HW5 := Lib.hid hw
  have HG5 := Lib.hid hg
  clear hk hb hw hg
  go_upto_region 10 with fail
  rw [← HW5.out, ← HG5.out]
  clear HW5 HG5
  go_wp2_with fail
  with_reducible refine (HR5.out w5).mono ?_
  rintro e w6 ⟨rfl, hb6⟩
  have HB6 := Lib.hid (HB5.out.trans (hb6.mono HB5.out.size))
  have x_6 := Lib.hid (x_5.out.up hb6)
  have y_6 := Lib.hid (y_5.out.up hb6)
  clear x_5
  clear y_5
  clear hb6
  obtain ⟨hk, hb⟩ := kf_of w6 false false 0
  obtain ⟨w7, hw⟩ : ∃ x, x = w6.alloc (.cells #[.bool false, .bool false, .int .i64 0] 24) := ⟨_, rfl⟩
  obtain ⟨g7, hg⟩ : ∃ g, g = w6.heap.size := ⟨_, rfl⟩
  rw [← hw, ← hg] at hk
  rw [← hw] at hb
  have HB7 := Lib.hid (HB6.out.trans (hb.mono HB6.out.size))
  have x_7 := Lib.hid (x_6.out.up hb)
  have y_7 := Lib.hid (y_6.out.up hb)
  clear x_6
  clear y_6
  have z_7 := Lib.hid hk
  have HW7 := Lib.hid hw
  have HG7 := Lib.hid hg
  clear hk hb hw hg
  go_upto_region 11 with fail
  rw [← HW7.out, ← HG7.out]
  clear HW7 HG7
  go_wp2_with fail
  with_reducible refine (HR2.out w7).mono ?_
  rintro e w8 ⟨rfl, hb8⟩
  have HB8 := Lib.hid (HB7.out.trans (hb8.mono HB7.out.size))
  have x_8 := Lib.hid (x_7.out.up hb8)
  have y_8 := Lib.hid (y_7.out.up hb8)
  have z_8 := Lib.hid (z_7.out.up hb8)
  clear x_7
  clear y_7
  clear z_7
  clear hb8
  obtain ⟨hk, hb⟩ := kf_of w8 true false 5
  obtain ⟨w9, hw⟩ : ∃ x, x = w8.alloc (.cells #[.bool true, .bool false, .int .i64 5] 24) := ⟨_, rfl⟩
  obtain ⟨g9, hg⟩ : ∃ g, g = w8.heap.size := ⟨_, rfl⟩
  rw [← hw, ← hg] at hk
  rw [← hw] at hb
  have HB9 := Lib.hid (HB8.out.trans (hb.mono HB8.out.size))
  have x_9 := Lib.hid (x_8.out.up hb)
  have y_9 := Lib.hid (y_8.out.up hb)
  have z_9 := Lib.hid (z_8.out.up hb)
  clear x_8
  clear y_8
  clear z_8
  have u_9 := Lib.hid hk
  have HW9 := Lib.hid hw
  have HG9 := Lib.hid hg
  clear hk hb hw hg
  go_upto_region 12 with fail
  rw [← HW9.out, ← HG9.out]
  clear HW9 HG9
  go_wp2_with fail
  with_reducible refine (HS0.out w9).mono ?_
  rintro e w10 ⟨rfl, hb10⟩
  have HB10 := Lib.hid (HB9.out.trans (hb10.mono HB9.out.size))
  have x_10 := Lib.hid (x_9.out.up hb10)
  have y_10 := Lib.hid (y_9.out.up hb10)
  have z_10 := Lib.hid (z_9.out.up hb10)
  have u_10 := Lib.hid (u_9.out.up hb10)
  clear x_9
  clear y_9
  clear z_9
  clear u_9
  clear hb10
  go_wp2_with fail
  with_reducible refine (HS4.out w10).mono ?_
  rintro e w11 ⟨rfl, hb11⟩
  have HB11 := Lib.hid (HB10.out.trans (hb11.mono HB10.out.size))
  have x_11 := Lib.hid (x_10.out.up hb11)
  have y_11 := Lib.hid (y_10.out.up hb11)
  have z_11 := Lib.hid (z_10.out.up hb11)
  have u_11 := Lib.hid (u_10.out.up hb11)
  clear x_10
  clear y_10
  clear z_10
  clear u_10
  clear hb11
  go_upto_region 15 with fail
  simp only [List.append]
  go_wp2_with fail
  with_reducible refine (HFST.out w11).mono ?_
  rintro e w12 ⟨rfl, hb12⟩
  have HB12 := Lib.hid (HB11.out.trans (hb12.mono HB11.out.size))
  have x_12 := Lib.hid (x_11.out.up hb12)
  have y_12 := Lib.hid (y_11.out.up hb12)
  have z_12 := Lib.hid (z_11.out.up hb12)
  have u_12 := Lib.hid (u_11.out.up hb12)
  clear x_11
  clear y_11
  clear z_11
  clear u_11
  clear hb12
  obtain ⟨x0, x1, x2⟩ := x_12.out.cells
  obtain ⟨y0, y1, y2⟩ := y_12.out.cells
  obtain ⟨z0, z1, z2⟩ := z_12.out.cells
  obtain ⟨u0, u1, u2⟩ := u_12.out.cells
  go_wp2_with fail
  go_ret
  exact ⟨rfl, HB12.out⟩
set_option maxRecDepth 100000 in
set_option maxHeartbeats 4000000 in
theorem way1 (e : Bool) (w : World) : Calls Try.prog 6 #[.int .i64 1, .bool e] w (YesV w) := by
  have HFST := Lib.hid fun (W : World) => first14_any W
  obtain ⟨a0, r0⟩ : ∃ a, recv 0 1 e = ⟨a, false, false, 0⟩ := by cases e <;> exact ⟨_, rfl⟩
  have HR0 := Lib.hid fun (W : World) => vrecv_is r0 W
  obtain ⟨a4, r4⟩ : ∃ a, recv 4 1 e = ⟨a, true, true, 5⟩ := by cases e <;> exact ⟨_, rfl⟩
  have HR4 := Lib.hid fun (W : World) => vrecv_is r4 W
  obtain ⟨a5, r5⟩ : ∃ a, recv 5 1 e = ⟨a, false, false, 0⟩ := by cases e <;> exact ⟨_, rfl⟩
  have HR5 := Lib.hid fun (W : World) => vrecv_is r5 W
  obtain ⟨a2, r2⟩ : ∃ a, recv 2 1 e = ⟨a, true, false, 5⟩ := by cases e <;> exact ⟨_, rfl⟩
  have HR2 := Lib.hid fun (W : World) => vrecv_is r2 W
  have q0 : send 0 1 e = (0, false) := by cases e <;> rfl
  have HS0 := Lib.hid fun (W : World) => vsend_is q0 W
  have q4 : send 4 1 e = (4, false) := by cases e <;> rfl
  have HS4 := Lib.hid fun (W : World) => vsend_is q4 W
  clear r0 r4 r5 r2 q0 q4
  go_enter Try.func6, Try.ntmps6
  have HB0 := Lib.hid (Below.refl w.heap.size w)
  go_wp2_with fail
  with_reducible refine (HFST.out w).mono ?_
  rintro e w1 ⟨rfl, hb1⟩
  have HB1 := Lib.hid (HB0.out.trans (hb1.mono HB0.out.size))
  clear hb1
  go_wp2_with fail
  with_reducible refine (HR0.out w1).mono ?_
  rintro e w2 ⟨rfl, hb2⟩
  have HB2 := Lib.hid (HB1.out.trans (hb2.mono HB1.out.size))
  clear hb2
  obtain ⟨hk, hb⟩ := kf_of w2 false false 0
  obtain ⟨w3, hw⟩ : ∃ x, x = w2.alloc (.cells #[.bool false, .bool false, .int .i64 0] 24) := ⟨_, rfl⟩
  obtain ⟨g3, hg⟩ : ∃ g, g = w2.heap.size := ⟨_, rfl⟩
  rw [← hw, ← hg] at hk
  rw [← hw] at hb
  have HB3 := Lib.hid (HB2.out.trans (hb.mono HB2.out.size))
  have x_3 := Lib.hid hk
  have HW3 := Lib.hid hw
  have HG3 := Lib.hid hg
  clear hk hb hw hg
  go_upto_region 9 with fail
  rw [← HW3.out, ← HG3.out]
  clear HW3 HG3
  go_wp2_with fail
  with_reducible refine (HR4.out w3).mono ?_
  rintro e w4 ⟨rfl, hb4⟩
  have HB4 := Lib.hid (HB3.out.trans (hb4.mono HB3.out.size))
  have x_4 := Lib.hid (x_3.out.up hb4)
  clear x_3
  clear hb4
  obtain ⟨hk, hb⟩ := kf_of w4 true true 5
  obtain ⟨w5, hw⟩ : ∃ x, x = w4.alloc (.cells #[.bool true, .bool true, .int .i64 5] 24) := ⟨_, rfl⟩
  obtain ⟨g5, hg⟩ : ∃ g, g = w4.heap.size := ⟨_, rfl⟩
  rw [← hw, ← hg] at hk
  rw [← hw] at hb
  have HB5 := Lib.hid (HB4.out.trans (hb.mono HB4.out.size))
  have x_5 := Lib.hid (x_4.out.up hb)
  clear x_4
  have y_5 := Lib.hid hk
  have HW5 := Lib.hid hw
  have HG5 := Lib.hid hg
  clear hk hb hw hg
  go_upto_region 10 with fail
  rw [← HW5.out, ← HG5.out]
  clear HW5 HG5
  go_wp2_with fail
  with_reducible refine (HR5.out w5).mono ?_
  rintro e w6 ⟨rfl, hb6⟩
  have HB6 := Lib.hid (HB5.out.trans (hb6.mono HB5.out.size))
  have x_6 := Lib.hid (x_5.out.up hb6)
  have y_6 := Lib.hid (y_5.out.up hb6)
  clear x_5
  clear y_5
  clear hb6
  obtain ⟨hk, hb⟩ := kf_of w6 false false 0
  obtain ⟨w7, hw⟩ : ∃ x, x = w6.alloc (.cells #[.bool false, .bool false, .int .i64 0] 24) := ⟨_, rfl⟩
  obtain ⟨g7, hg⟩ : ∃ g, g = w6.heap.size := ⟨_, rfl⟩
  rw [← hw, ← hg] at hk
  rw [← hw] at hb
  have HB7 := Lib.hid (HB6.out.trans (hb.mono HB6.out.size))
  have x_7 := Lib.hid (x_6.out.up hb)
  have y_7 := Lib.hid (y_6.out.up hb)
  clear x_6
  clear y_6
  have z_7 := Lib.hid hk
  have HW7 := Lib.hid hw
  have HG7 := Lib.hid hg
  clear hk hb hw hg
  go_upto_region 11 with fail
  rw [← HW7.out, ← HG7.out]
  clear HW7 HG7
  go_wp2_with fail
  with_reducible refine (HR2.out w7).mono ?_
  rintro e w8 ⟨rfl, hb8⟩
  have HB8 := Lib.hid (HB7.out.trans (hb8.mono HB7.out.size))
  have x_8 := Lib.hid (x_7.out.up hb8)
  have y_8 := Lib.hid (y_7.out.up hb8)
  have z_8 := Lib.hid (z_7.out.up hb8)
  clear x_7
  clear y_7
  clear z_7
  clear hb8
  obtain ⟨hk, hb⟩ := kf_of w8 true false 5
  obtain ⟨w9, hw⟩ : ∃ x, x = w8.alloc (.cells #[.bool true, .bool false, .int .i64 5] 24) := ⟨_, rfl⟩
  obtain ⟨g9, hg⟩ : ∃ g, g = w8.heap.size := ⟨_, rfl⟩
  rw [← hw, ← hg] at hk
  rw [← hw] at hb
  have HB9 := Lib.hid (HB8.out.trans (hb.mono HB8.out.size))
  have x_9 := Lib.hid (x_8.out.up hb)
  have y_9 := Lib.hid (y_8.out.up hb)
  have z_9 := Lib.hid (z_8.out.up hb)
  clear x_8
  clear y_8
  clear z_8
  have u_9 := Lib.hid hk
  have HW9 := Lib.hid hw
  have HG9 := Lib.hid hg
  clear hk hb hw hg
  go_upto_region 12 with fail
  rw [← HW9.out, ← HG9.out]
  clear HW9 HG9
  go_wp2_with fail
  with_reducible refine (HS0.out w9).mono ?_
  rintro e w10 ⟨rfl, hb10⟩
  have HB10 := Lib.hid (HB9.out.trans (hb10.mono HB9.out.size))
  have x_10 := Lib.hid (x_9.out.up hb10)
  have y_10 := Lib.hid (y_9.out.up hb10)
  have z_10 := Lib.hid (z_9.out.up hb10)
  have u_10 := Lib.hid (u_9.out.up hb10)
  clear x_9
  clear y_9
  clear z_9
  clear u_9
  clear hb10
  go_wp2_with fail
  with_reducible refine (HS4.out w10).mono ?_
  rintro e w11 ⟨rfl, hb11⟩
  have HB11 := Lib.hid (HB10.out.trans (hb11.mono HB10.out.size))
  have x_11 := Lib.hid (x_10.out.up hb11)
  have y_11 := Lib.hid (y_10.out.up hb11)
  have z_11 := Lib.hid (z_10.out.up hb11)
  have u_11 := Lib.hid (u_10.out.up hb11)
  clear x_10
  clear y_10
  clear z_10
  clear u_10
  clear hb11
  go_upto_region 15 with fail
  simp only [List.append]
  go_wp2_with fail
  with_reducible refine (HFST.out w11).mono ?_
  rintro e w12 ⟨rfl, hb12⟩
  have HB12 := Lib.hid (HB11.out.trans (hb12.mono HB11.out.size))
  have x_12 := Lib.hid (x_11.out.up hb12)
  have y_12 := Lib.hid (y_11.out.up hb12)
  have z_12 := Lib.hid (z_11.out.up hb12)
  have u_12 := Lib.hid (u_11.out.up hb12)
  clear x_11
  clear y_11
  clear z_11
  clear u_11
  clear hb12
  obtain ⟨x0, x1, x2⟩ := x_12.out.cells
  obtain ⟨y0, y1, y2⟩ := y_12.out.cells
  obtain ⟨z0, z1, z2⟩ := z_12.out.cells
  obtain ⟨u0, u1, u2⟩ := u_12.out.cells
  go_wp2_with fail
  go_ret
  exact ⟨rfl, HB12.out⟩
set_option maxRecDepth 100000 in
set_option maxHeartbeats 4000000 in
theorem way2 (e : Bool) (w : World) : Calls Try.prog 6 #[.int .i64 2, .bool e] w (YesV w) := by
  have HFST := Lib.hid fun (W : World) => first14_any W
  obtain ⟨a0, r0⟩ : ∃ a, recv 0 2 e = ⟨a, false, false, 0⟩ := by cases e <;> exact ⟨_, rfl⟩
  have HR0 := Lib.hid fun (W : World) => vrecv_is r0 W
  obtain ⟨a4, r4⟩ : ∃ a, recv 4 2 e = ⟨a, false, false, 0⟩ := by cases e <;> exact ⟨_, rfl⟩
  have HR4 := Lib.hid fun (W : World) => vrecv_is r4 W
  obtain ⟨a5, r5⟩ : ∃ a, recv 5 2 e = ⟨a, false, false, 0⟩ := by cases e <;> exact ⟨_, rfl⟩
  have HR5 := Lib.hid fun (W : World) => vrecv_is r5 W
  obtain ⟨a2, r2⟩ : ∃ a, recv 2 2 e = ⟨a, false, false, 0⟩ := by cases e <;> exact ⟨_, rfl⟩
  have HR2 := Lib.hid fun (W : World) => vrecv_is r2 W
  have q0 : send 0 2 e = (0, true) := by cases e <;> rfl
  have HS0 := Lib.hid fun (W : World) => vsend_is q0 W
  have q4 : send 4 2 e = (4, true) := by cases e <;> rfl
  have HS4 := Lib.hid fun (W : World) => vsend_is q4 W
  clear r0 r4 r5 r2 q0 q4
  go_enter Try.func6, Try.ntmps6
  have HB0 := Lib.hid (Below.refl w.heap.size w)
  go_wp2_with fail
  with_reducible refine (HFST.out w).mono ?_
  rintro e w1 ⟨rfl, hb1⟩
  have HB1 := Lib.hid (HB0.out.trans (hb1.mono HB0.out.size))
  clear hb1
  go_wp2_with fail
  with_reducible refine (HR0.out w1).mono ?_
  rintro e w2 ⟨rfl, hb2⟩
  have HB2 := Lib.hid (HB1.out.trans (hb2.mono HB1.out.size))
  clear hb2
  obtain ⟨hk, hb⟩ := kf_of w2 false false 0
  obtain ⟨w3, hw⟩ : ∃ x, x = w2.alloc (.cells #[.bool false, .bool false, .int .i64 0] 24) := ⟨_, rfl⟩
  obtain ⟨g3, hg⟩ : ∃ g, g = w2.heap.size := ⟨_, rfl⟩
  rw [← hw, ← hg] at hk
  rw [← hw] at hb
  have HB3 := Lib.hid (HB2.out.trans (hb.mono HB2.out.size))
  have x_3 := Lib.hid hk
  have HW3 := Lib.hid hw
  have HG3 := Lib.hid hg
  clear hk hb hw hg
  go_upto_region 9 with fail
  rw [← HW3.out, ← HG3.out]
  clear HW3 HG3
  go_wp2_with fail
  with_reducible refine (HR4.out w3).mono ?_
  rintro e w4 ⟨rfl, hb4⟩
  have HB4 := Lib.hid (HB3.out.trans (hb4.mono HB3.out.size))
  have x_4 := Lib.hid (x_3.out.up hb4)
  clear x_3
  clear hb4
  obtain ⟨hk, hb⟩ := kf_of w4 false false 0
  obtain ⟨w5, hw⟩ : ∃ x, x = w4.alloc (.cells #[.bool false, .bool false, .int .i64 0] 24) := ⟨_, rfl⟩
  obtain ⟨g5, hg⟩ : ∃ g, g = w4.heap.size := ⟨_, rfl⟩
  rw [← hw, ← hg] at hk
  rw [← hw] at hb
  have HB5 := Lib.hid (HB4.out.trans (hb.mono HB4.out.size))
  have x_5 := Lib.hid (x_4.out.up hb)
  clear x_4
  have y_5 := Lib.hid hk
  have HW5 := Lib.hid hw
  have HG5 := Lib.hid hg
  clear hk hb hw hg
  go_upto_region 10 with fail
  rw [← HW5.out, ← HG5.out]
  clear HW5 HG5
  go_wp2_with fail
  with_reducible refine (HR5.out w5).mono ?_
  rintro e w6 ⟨rfl, hb6⟩
  have HB6 := Lib.hid (HB5.out.trans (hb6.mono HB5.out.size))
  have x_6 := Lib.hid (x_5.out.up hb6)
  have y_6 := Lib.hid (y_5.out.up hb6)
  clear x_5
  clear y_5
  clear hb6
  obtain ⟨hk, hb⟩ := kf_of w6 false false 0
  obtain ⟨w7, hw⟩ : ∃ x, x = w6.alloc (.cells #[.bool false, .bool false, .int .i64 0] 24) := ⟨_, rfl⟩
  obtain ⟨g7, hg⟩ : ∃ g, g = w6.heap.size := ⟨_, rfl⟩
  rw [← hw, ← hg] at hk
  rw [← hw] at hb
  have HB7 := Lib.hid (HB6.out.trans (hb.mono HB6.out.size))
  have x_7 := Lib.hid (x_6.out.up hb)
  have y_7 := Lib.hid (y_6.out.up hb)
  clear x_6
  clear y_6
  have z_7 := Lib.hid hk
  have HW7 := Lib.hid hw
  have HG7 := Lib.hid hg
  clear hk hb hw hg
  go_upto_region 11 with fail
  rw [← HW7.out, ← HG7.out]
  clear HW7 HG7
  go_wp2_with fail
  with_reducible refine (HR2.out w7).mono ?_
  rintro e w8 ⟨rfl, hb8⟩
  have HB8 := Lib.hid (HB7.out.trans (hb8.mono HB7.out.size))
  have x_8 := Lib.hid (x_7.out.up hb8)
  have y_8 := Lib.hid (y_7.out.up hb8)
  have z_8 := Lib.hid (z_7.out.up hb8)
  clear x_7
  clear y_7
  clear z_7
  clear hb8
  obtain ⟨hk, hb⟩ := kf_of w8 false false 0
  obtain ⟨w9, hw⟩ : ∃ x, x = w8.alloc (.cells #[.bool false, .bool false, .int .i64 0] 24) := ⟨_, rfl⟩
  obtain ⟨g9, hg⟩ : ∃ g, g = w8.heap.size := ⟨_, rfl⟩
  rw [← hw, ← hg] at hk
  rw [← hw] at hb
  have HB9 := Lib.hid (HB8.out.trans (hb.mono HB8.out.size))
  have x_9 := Lib.hid (x_8.out.up hb)
  have y_9 := Lib.hid (y_8.out.up hb)
  have z_9 := Lib.hid (z_8.out.up hb)
  clear x_8
  clear y_8
  clear z_8
  have u_9 := Lib.hid hk
  have HW9 := Lib.hid hw
  have HG9 := Lib.hid hg
  clear hk hb hw hg
  go_upto_region 12 with fail
  rw [← HW9.out, ← HG9.out]
  clear HW9 HG9
  go_wp2_with fail
  with_reducible refine (HS0.out w9).mono ?_
  rintro e w10 ⟨rfl, hb10⟩
  have HB10 := Lib.hid (HB9.out.trans (hb10.mono HB9.out.size))
  have x_10 := Lib.hid (x_9.out.up hb10)
  have y_10 := Lib.hid (y_9.out.up hb10)
  have z_10 := Lib.hid (z_9.out.up hb10)
  have u_10 := Lib.hid (u_9.out.up hb10)
  clear x_9
  clear y_9
  clear z_9
  clear u_9
  clear hb10
  go_wp2_with fail
  with_reducible refine (HS4.out w10).mono ?_
  rintro e w11 ⟨rfl, hb11⟩
  have HB11 := Lib.hid (HB10.out.trans (hb11.mono HB10.out.size))
  have x_11 := Lib.hid (x_10.out.up hb11)
  have y_11 := Lib.hid (y_10.out.up hb11)
  have z_11 := Lib.hid (z_10.out.up hb11)
  have u_11 := Lib.hid (u_10.out.up hb11)
  clear x_10
  clear y_10
  clear z_10
  clear u_10
  clear hb11
  go_upto_region 15 with fail
  simp only [List.append]
  go_wp2_with fail
  with_reducible refine (HFST.out w11).mono ?_
  rintro e w12 ⟨rfl, hb12⟩
  have HB12 := Lib.hid (HB11.out.trans (hb12.mono HB11.out.size))
  have x_12 := Lib.hid (x_11.out.up hb12)
  have y_12 := Lib.hid (y_11.out.up hb12)
  have z_12 := Lib.hid (z_11.out.up hb12)
  have u_12 := Lib.hid (u_11.out.up hb12)
  clear x_11
  clear y_11
  clear z_11
  clear u_11
  clear hb12
  obtain ⟨x0, x1, x2⟩ := x_12.out.cells
  obtain ⟨y0, y1, y2⟩ := y_12.out.cells
  obtain ⟨z0, z1, z2⟩ := z_12.out.cells
  obtain ⟨u0, u1, u2⟩ := u_12.out.cells
  go_wp2_with fail
  go_ret
  exact ⟨rfl, HB12.out⟩
set_option maxRecDepth 100000 in
set_option maxHeartbeats 4000000 in
theorem way3 (e : Bool) (w : World) : Calls Try.prog 6 #[.int .i64 3, .bool e] w (YesV w) := by
  have HFST := Lib.hid fun (W : World) => first14_any W
  obtain ⟨a0, r0⟩ : ∃ a, recv 0 3 e = ⟨a, true, true, 1⟩ := by cases e <;> exact ⟨_, rfl⟩
  have HR0 := Lib.hid fun (W : World) => vrecv_is r0 W
  obtain ⟨a4, r4⟩ : ∃ a, recv 4 3 e = ⟨a, false, false, 0⟩ := by cases e <;> exact ⟨_, rfl⟩
  have HR4 := Lib.hid fun (W : World) => vrecv_is r4 W
  obtain ⟨a5, r5⟩ : ∃ a, recv 5 3 e = ⟨a, false, false, 0⟩ := by cases e <;> exact ⟨_, rfl⟩
  have HR5 := Lib.hid fun (W : World) => vrecv_is r5 W
  obtain ⟨a2, r2⟩ : ∃ a, recv 2 3 e = ⟨a, false, false, 0⟩ := by cases e <;> exact ⟨_, rfl⟩
  have HR2 := Lib.hid fun (W : World) => vrecv_is r2 W
  have q0 : send 0 3 e = (0, false) := by cases e <;> rfl
  have HS0 := Lib.hid fun (W : World) => vsend_is q0 W
  have q4 : send 4 3 e = (4, false) := by cases e <;> rfl
  have HS4 := Lib.hid fun (W : World) => vsend_is q4 W
  clear r0 r4 r5 r2 q0 q4
  go_enter Try.func6, Try.ntmps6
  have HB0 := Lib.hid (Below.refl w.heap.size w)
  go_wp2_with fail
  with_reducible refine (HFST.out w).mono ?_
  rintro e w1 ⟨rfl, hb1⟩
  have HB1 := Lib.hid (HB0.out.trans (hb1.mono HB0.out.size))
  clear hb1
  go_wp2_with fail
  with_reducible refine (HR0.out w1).mono ?_
  rintro e w2 ⟨rfl, hb2⟩
  have HB2 := Lib.hid (HB1.out.trans (hb2.mono HB1.out.size))
  clear hb2
  obtain ⟨hk, hb⟩ := kf_of w2 true true 1
  obtain ⟨w3, hw⟩ : ∃ x, x = w2.alloc (.cells #[.bool true, .bool true, .int .i64 1] 24) := ⟨_, rfl⟩
  obtain ⟨g3, hg⟩ : ∃ g, g = w2.heap.size := ⟨_, rfl⟩
  rw [← hw, ← hg] at hk
  rw [← hw] at hb
  have HB3 := Lib.hid (HB2.out.trans (hb.mono HB2.out.size))
  have x_3 := Lib.hid hk
  have HW3 := Lib.hid hw
  have HG3 := Lib.hid hg
  clear hk hb hw hg
  go_upto_region 9 with fail
  rw [← HW3.out, ← HG3.out]
  clear HW3 HG3
  go_wp2_with fail
  with_reducible refine (HR4.out w3).mono ?_
  rintro e w4 ⟨rfl, hb4⟩
  have HB4 := Lib.hid (HB3.out.trans (hb4.mono HB3.out.size))
  have x_4 := Lib.hid (x_3.out.up hb4)
  clear x_3
  clear hb4
  obtain ⟨hk, hb⟩ := kf_of w4 false false 0
  obtain ⟨w5, hw⟩ : ∃ x, x = w4.alloc (.cells #[.bool false, .bool false, .int .i64 0] 24) := ⟨_, rfl⟩
  obtain ⟨g5, hg⟩ : ∃ g, g = w4.heap.size := ⟨_, rfl⟩
  rw [← hw, ← hg] at hk
  rw [← hw] at hb
  have HB5 := Lib.hid (HB4.out.trans (hb.mono HB4.out.size))
  have x_5 := Lib.hid (x_4.out.up hb)
  clear x_4
  have y_5 := Lib.hid hk
  have HW5 := Lib.hid hw
  have HG5 := Lib.hid hg
  clear hk hb hw hg
  go_upto_region 10 with fail
  rw [← HW5.out, ← HG5.out]
  clear HW5 HG5
  go_wp2_with fail
  with_reducible refine (HR5.out w5).mono ?_
  rintro e w6 ⟨rfl, hb6⟩
  have HB6 := Lib.hid (HB5.out.trans (hb6.mono HB5.out.size))
  have x_6 := Lib.hid (x_5.out.up hb6)
  have y_6 := Lib.hid (y_5.out.up hb6)
  clear x_5
  clear y_5
  clear hb6
  obtain ⟨hk, hb⟩ := kf_of w6 false false 0
  obtain ⟨w7, hw⟩ : ∃ x, x = w6.alloc (.cells #[.bool false, .bool false, .int .i64 0] 24) := ⟨_, rfl⟩
  obtain ⟨g7, hg⟩ : ∃ g, g = w6.heap.size := ⟨_, rfl⟩
  rw [← hw, ← hg] at hk
  rw [← hw] at hb
  have HB7 := Lib.hid (HB6.out.trans (hb.mono HB6.out.size))
  have x_7 := Lib.hid (x_6.out.up hb)
  have y_7 := Lib.hid (y_6.out.up hb)
  clear x_6
  clear y_6
  have z_7 := Lib.hid hk
  have HW7 := Lib.hid hw
  have HG7 := Lib.hid hg
  clear hk hb hw hg
  go_upto_region 11 with fail
  rw [← HW7.out, ← HG7.out]
  clear HW7 HG7
  go_wp2_with fail
  with_reducible refine (HR2.out w7).mono ?_
  rintro e w8 ⟨rfl, hb8⟩
  have HB8 := Lib.hid (HB7.out.trans (hb8.mono HB7.out.size))
  have x_8 := Lib.hid (x_7.out.up hb8)
  have y_8 := Lib.hid (y_7.out.up hb8)
  have z_8 := Lib.hid (z_7.out.up hb8)
  clear x_7
  clear y_7
  clear z_7
  clear hb8
  obtain ⟨hk, hb⟩ := kf_of w8 false false 0
  obtain ⟨w9, hw⟩ : ∃ x, x = w8.alloc (.cells #[.bool false, .bool false, .int .i64 0] 24) := ⟨_, rfl⟩
  obtain ⟨g9, hg⟩ : ∃ g, g = w8.heap.size := ⟨_, rfl⟩
  rw [← hw, ← hg] at hk
  rw [← hw] at hb
  have HB9 := Lib.hid (HB8.out.trans (hb.mono HB8.out.size))
  have x_9 := Lib.hid (x_8.out.up hb)
  have y_9 := Lib.hid (y_8.out.up hb)
  have z_9 := Lib.hid (z_8.out.up hb)
  clear x_8
  clear y_8
  clear z_8
  have u_9 := Lib.hid hk
  have HW9 := Lib.hid hw
  have HG9 := Lib.hid hg
  clear hk hb hw hg
  go_upto_region 12 with fail
  rw [← HW9.out, ← HG9.out]
  clear HW9 HG9
  go_wp2_with fail
  with_reducible refine (HS0.out w9).mono ?_
  rintro e w10 ⟨rfl, hb10⟩
  have HB10 := Lib.hid (HB9.out.trans (hb10.mono HB9.out.size))
  have x_10 := Lib.hid (x_9.out.up hb10)
  have y_10 := Lib.hid (y_9.out.up hb10)
  have z_10 := Lib.hid (z_9.out.up hb10)
  have u_10 := Lib.hid (u_9.out.up hb10)
  clear x_9
  clear y_9
  clear z_9
  clear u_9
  clear hb10
  go_wp2_with fail
  with_reducible refine (HS4.out w10).mono ?_
  rintro e w11 ⟨rfl, hb11⟩
  have HB11 := Lib.hid (HB10.out.trans (hb11.mono HB10.out.size))
  have x_11 := Lib.hid (x_10.out.up hb11)
  have y_11 := Lib.hid (y_10.out.up hb11)
  have z_11 := Lib.hid (z_10.out.up hb11)
  have u_11 := Lib.hid (u_10.out.up hb11)
  clear x_10
  clear y_10
  clear z_10
  clear u_10
  clear hb11
  go_upto_region 15 with fail
  simp only [List.append]
  go_wp2_with fail
  with_reducible refine (HFST.out w11).mono ?_
  rintro e w12 ⟨rfl, hb12⟩
  have HB12 := Lib.hid (HB11.out.trans (hb12.mono HB11.out.size))
  have x_12 := Lib.hid (x_11.out.up hb12)
  have y_12 := Lib.hid (y_11.out.up hb12)
  have z_12 := Lib.hid (z_11.out.up hb12)
  have u_12 := Lib.hid (u_11.out.up hb12)
  clear x_11
  clear y_11
  clear z_11
  clear u_11
  clear hb12
  obtain ⟨x0, x1, x2⟩ := x_12.out.cells
  obtain ⟨y0, y1, y2⟩ := y_12.out.cells
  obtain ⟨z0, z1, z2⟩ := z_12.out.cells
  obtain ⟨u0, u1, u2⟩ := u_12.out.cells
  go_wp2_with fail
  go_ret
  exact ⟨rfl, HB12.out⟩
set_option maxRecDepth 100000 in
set_option maxHeartbeats 4000000 in
theorem way8 (e : Bool) (w : World) : Calls Try.prog 6 #[.int .i64 8, .bool e] w (YesV w) := by
  have HFST := Lib.hid fun (W : World) => first14_any W
  obtain ⟨a0, r0⟩ : ∃ a, recv 0 8 e = ⟨a, true, true, 1⟩ := by cases e <;> exact ⟨_, rfl⟩
  have HR0 := Lib.hid fun (W : World) => vrecv_is r0 W
  obtain ⟨a4, r4⟩ : ∃ a, recv 4 8 e = ⟨a, false, false, 0⟩ := by cases e <;> exact ⟨_, rfl⟩
  have HR4 := Lib.hid fun (W : World) => vrecv_is r4 W
  obtain ⟨a5, r5⟩ : ∃ a, recv 5 8 e = ⟨a, false, false, 0⟩ := by cases e <;> exact ⟨_, rfl⟩
  have HR5 := Lib.hid fun (W : World) => vrecv_is r5 W
  obtain ⟨a2, r2⟩ : ∃ a, recv 2 8 e = ⟨a, false, false, 0⟩ := by cases e <;> exact ⟨_, rfl⟩
  have HR2 := Lib.hid fun (W : World) => vrecv_is r2 W
  have q0 : send 0 8 e = (0, false) := by cases e <;> rfl
  have HS0 := Lib.hid fun (W : World) => vsend_is q0 W
  have q4 : send 4 8 e = (4, false) := by cases e <;> rfl
  have HS4 := Lib.hid fun (W : World) => vsend_is q4 W
  clear r0 r4 r5 r2 q0 q4
  go_enter Try.func6, Try.ntmps6
  have HB0 := Lib.hid (Below.refl w.heap.size w)
  go_wp2_with fail
  with_reducible refine (HFST.out w).mono ?_
  rintro e w1 ⟨rfl, hb1⟩
  have HB1 := Lib.hid (HB0.out.trans (hb1.mono HB0.out.size))
  clear hb1
  go_wp2_with fail
  with_reducible refine (HR0.out w1).mono ?_
  rintro e w2 ⟨rfl, hb2⟩
  have HB2 := Lib.hid (HB1.out.trans (hb2.mono HB1.out.size))
  clear hb2
  obtain ⟨hk, hb⟩ := kf_of w2 true true 1
  obtain ⟨w3, hw⟩ : ∃ x, x = w2.alloc (.cells #[.bool true, .bool true, .int .i64 1] 24) := ⟨_, rfl⟩
  obtain ⟨g3, hg⟩ : ∃ g, g = w2.heap.size := ⟨_, rfl⟩
  rw [← hw, ← hg] at hk
  rw [← hw] at hb
  have HB3 := Lib.hid (HB2.out.trans (hb.mono HB2.out.size))
  have x_3 := Lib.hid hk
  have HW3 := Lib.hid hw
  have HG3 := Lib.hid hg
  clear hk hb hw hg
  go_upto_region 9 with fail
  rw [← HW3.out, ← HG3.out]
  clear HW3 HG3
  go_wp2_with fail
  with_reducible refine (HR4.out w3).mono ?_
  rintro e w4 ⟨rfl, hb4⟩
  have HB4 := Lib.hid (HB3.out.trans (hb4.mono HB3.out.size))
  have x_4 := Lib.hid (x_3.out.up hb4)
  clear x_3
  clear hb4
  obtain ⟨hk, hb⟩ := kf_of w4 false false 0
  obtain ⟨w5, hw⟩ : ∃ x, x = w4.alloc (.cells #[.bool false, .bool false, .int .i64 0] 24) := ⟨_, rfl⟩
  obtain ⟨g5, hg⟩ : ∃ g, g = w4.heap.size := ⟨_, rfl⟩
  rw [← hw, ← hg] at hk
  rw [← hw] at hb
  have HB5 := Lib.hid (HB4.out.trans (hb.mono HB4.out.size))
  have x_5 := Lib.hid (x_4.out.up hb)
  clear x_4
  have y_5 := Lib.hid hk
  have HW5 := Lib.hid hw
  have HG5 := Lib.hid hg
  clear hk hb hw hg
  go_upto_region 10 with fail
  rw [← HW5.out, ← HG5.out]
  clear HW5 HG5
  go_wp2_with fail
  with_reducible refine (HR5.out w5).mono ?_
  rintro e w6 ⟨rfl, hb6⟩
  have HB6 := Lib.hid (HB5.out.trans (hb6.mono HB5.out.size))
  have x_6 := Lib.hid (x_5.out.up hb6)
  have y_6 := Lib.hid (y_5.out.up hb6)
  clear x_5
  clear y_5
  clear hb6
  obtain ⟨hk, hb⟩ := kf_of w6 false false 0
  obtain ⟨w7, hw⟩ : ∃ x, x = w6.alloc (.cells #[.bool false, .bool false, .int .i64 0] 24) := ⟨_, rfl⟩
  obtain ⟨g7, hg⟩ : ∃ g, g = w6.heap.size := ⟨_, rfl⟩
  rw [← hw, ← hg] at hk
  rw [← hw] at hb
  have HB7 := Lib.hid (HB6.out.trans (hb.mono HB6.out.size))
  have x_7 := Lib.hid (x_6.out.up hb)
  have y_7 := Lib.hid (y_6.out.up hb)
  clear x_6
  clear y_6
  have z_7 := Lib.hid hk
  have HW7 := Lib.hid hw
  have HG7 := Lib.hid hg
  clear hk hb hw hg
  go_upto_region 11 with fail
  rw [← HW7.out, ← HG7.out]
  clear HW7 HG7
  go_wp2_with fail
  with_reducible refine (HR2.out w7).mono ?_
  rintro e w8 ⟨rfl, hb8⟩
  have HB8 := Lib.hid (HB7.out.trans (hb8.mono HB7.out.size))
  have x_8 := Lib.hid (x_7.out.up hb8)
  have y_8 := Lib.hid (y_7.out.up hb8)
  have z_8 := Lib.hid (z_7.out.up hb8)
  clear x_7
  clear y_7
  clear z_7
  clear hb8
  obtain ⟨hk, hb⟩ := kf_of w8 false false 0
  obtain ⟨w9, hw⟩ : ∃ x, x = w8.alloc (.cells #[.bool false, .bool false, .int .i64 0] 24) := ⟨_, rfl⟩
  obtain ⟨g9, hg⟩ : ∃ g, g = w8.heap.size := ⟨_, rfl⟩
  rw [← hw, ← hg] at hk
  rw [← hw] at hb
  have HB9 := Lib.hid (HB8.out.trans (hb.mono HB8.out.size))
  have x_9 := Lib.hid (x_8.out.up hb)
  have y_9 := Lib.hid (y_8.out.up hb)
  have z_9 := Lib.hid (z_8.out.up hb)
  clear x_8
  clear y_8
  clear z_8
  have u_9 := Lib.hid hk
  have HW9 := Lib.hid hw
  have HG9 := Lib.hid hg
  clear hk hb hw hg
  go_upto_region 12 with fail
  rw [← HW9.out, ← HG9.out]
  clear HW9 HG9
  go_wp2_with fail
  with_reducible refine (HS0.out w9).mono ?_
  rintro e w10 ⟨rfl, hb10⟩
  have HB10 := Lib.hid (HB9.out.trans (hb10.mono HB9.out.size))
  have x_10 := Lib.hid (x_9.out.up hb10)
  have y_10 := Lib.hid (y_9.out.up hb10)
  have z_10 := Lib.hid (z_9.out.up hb10)
  have u_10 := Lib.hid (u_9.out.up hb10)
  clear x_9
  clear y_9
  clear z_9
  clear u_9
  clear hb10
  go_wp2_with fail
  with_reducible refine (HS4.out w10).mono ?_
  rintro e w11 ⟨rfl, hb11⟩
  have HB11 := Lib.hid (HB10.out.trans (hb11.mono HB10.out.size))
  have x_11 := Lib.hid (x_10.out.up hb11)
  have y_11 := Lib.hid (y_10.out.up hb11)
  have z_11 := Lib.hid (z_10.out.up hb11)
  have u_11 := Lib.hid (u_10.out.up hb11)
  clear x_10
  clear y_10
  clear z_10
  clear u_10
  clear hb11
  go_upto_region 15 with fail
  simp only [List.append]
  go_wp2_with fail
  with_reducible refine (HFST.out w11).mono ?_
  rintro e w12 ⟨rfl, hb12⟩
  have HB12 := Lib.hid (HB11.out.trans (hb12.mono HB11.out.size))
  have x_12 := Lib.hid (x_11.out.up hb12)
  have y_12 := Lib.hid (y_11.out.up hb12)
  have z_12 := Lib.hid (z_11.out.up hb12)
  have u_12 := Lib.hid (u_11.out.up hb12)
  clear x_11
  clear y_11
  clear z_11
  clear u_11
  clear hb12
  obtain ⟨x0, x1, x2⟩ := x_12.out.cells
  obtain ⟨y0, y1, y2⟩ := y_12.out.cells
  obtain ⟨z0, z1, z2⟩ := z_12.out.cells
  obtain ⟨u0, u1, u2⟩ := u_12.out.cells
  go_wp2_with fail
  go_ret
  exact ⟨rfl, HB12.out⟩
set_option maxRecDepth 100000 in
set_option maxHeartbeats 4000000 in
theorem wayo (k : Int) (e : Bool) (w : World) (h0 : ¬ k < 0) (h9 : ¬ 9 < k) (hk : ¬ (k = 0 ∨ k = 1 ∨ k = 2 ∨ k = 3 ∨ k = 8)) : Calls Try.prog 6 #[.int .i64 k, .bool e] w (YesV w) := by
  have HFST := Lib.hid fun (W : World) => first14_any W
  obtain ⟨a0, r0⟩ : ∃ a, recv 0 k e = ⟨a, false, false, 0⟩ := by exact ⟨_, by unfold recv; rw [if_neg hk]; rfl⟩
  have HR0 := Lib.hid fun (W : World) => vrecv_is r0 W
  obtain ⟨a4, r4⟩ : ∃ a, recv 4 k e = ⟨a, false, false, 0⟩ := by exact ⟨_, by unfold recv; rw [if_neg hk]; rfl⟩
  have HR4 := Lib.hid fun (W : World) => vrecv_is r4 W
  obtain ⟨a5, r5⟩ : ∃ a, recv 5 k e = ⟨a, false, false, 0⟩ := by exact ⟨_, by unfold recv; rw [if_neg hk]; rfl⟩
  have HR5 := Lib.hid fun (W : World) => vrecv_is r5 W
  obtain ⟨a2, r2⟩ : ∃ a, recv 2 k e = ⟨a, false, false, 0⟩ := by exact ⟨_, by unfold recv; rw [if_neg hk]; rfl⟩
  have HR2 := Lib.hid fun (W : World) => vrecv_is r2 W
  have q0 : send 0 k e = (0, true) := by unfold send; rw [if_neg (by omega), if_neg (by omega), if_neg (by omega)]
  have HS0 := Lib.hid fun (W : World) => vsend_is q0 W
  have q4 : send 4 k e = (4, true) := by unfold send; rw [if_neg (by omega), if_neg (by omega), if_neg (by omega)]
  have HS4 := Lib.hid fun (W : World) => vsend_is q4 W
  clear r0 r4 r5 r2 q0 q4
  have k0b : (k == 0) = false := bne (by omega)
  have k0n : (k != 0) = true := nbt (by omega)
  have k1b : (k == 1) = false := bne (by omega)
  have k1n : (k != 1) = true := nbt (by omega)
  have k2b : (k == 2) = false := bne (by omega)
  have k2n : (k != 2) = true := nbt (by omega)
  have k3b : (k == 3) = false := bne (by omega)
  have k3n : (k != 3) = true := nbt (by omega)
  have k8b : (k == 8) = false := bne (by omega)
  have k8n : (k != 8) = true := nbt (by omega)
  clear hk
  go_enter Try.func6, Try.ntmps6
  have HB0 := Lib.hid (Below.refl w.heap.size w)
  go_wp2_with fail
  with_reducible refine (HFST.out w).mono ?_
  rintro e w1 ⟨rfl, hb1⟩
  have HB1 := Lib.hid (HB0.out.trans (hb1.mono HB0.out.size))
  clear hb1
  go_wp2_with fail
  with_reducible refine (HR0.out w1).mono ?_
  rintro e w2 ⟨rfl, hb2⟩
  have HB2 := Lib.hid (HB1.out.trans (hb2.mono HB1.out.size))
  clear hb2
  obtain ⟨hk, hb⟩ := kf_of w2 false false 0
  obtain ⟨w3, hw⟩ : ∃ x, x = w2.alloc (.cells #[.bool false, .bool false, .int .i64 0] 24) := ⟨_, rfl⟩
  obtain ⟨g3, hg⟩ : ∃ g, g = w2.heap.size := ⟨_, rfl⟩
  rw [← hw, ← hg] at hk
  rw [← hw] at hb
  have HB3 := Lib.hid (HB2.out.trans (hb.mono HB2.out.size))
  have x_3 := Lib.hid hk
  have HW3 := Lib.hid hw
  have HG3 := Lib.hid hg
  clear hk hb hw hg
  go_upto_region 9 with fail
  rw [← HW3.out, ← HG3.out]
  clear HW3 HG3
  go_wp2_with fail
  with_reducible refine (HR4.out w3).mono ?_
  rintro e w4 ⟨rfl, hb4⟩
  have HB4 := Lib.hid (HB3.out.trans (hb4.mono HB3.out.size))
  have x_4 := Lib.hid (x_3.out.up hb4)
  clear x_3
  clear hb4
  obtain ⟨hk, hb⟩ := kf_of w4 false false 0
  obtain ⟨w5, hw⟩ : ∃ x, x = w4.alloc (.cells #[.bool false, .bool false, .int .i64 0] 24) := ⟨_, rfl⟩
  obtain ⟨g5, hg⟩ : ∃ g, g = w4.heap.size := ⟨_, rfl⟩
  rw [← hw, ← hg] at hk
  rw [← hw] at hb
  have HB5 := Lib.hid (HB4.out.trans (hb.mono HB4.out.size))
  have x_5 := Lib.hid (x_4.out.up hb)
  clear x_4
  have y_5 := Lib.hid hk
  have HW5 := Lib.hid hw
  have HG5 := Lib.hid hg
  clear hk hb hw hg
  go_upto_region 10 with fail
  rw [← HW5.out, ← HG5.out]
  clear HW5 HG5
  go_wp2_with fail
  with_reducible refine (HR5.out w5).mono ?_
  rintro e w6 ⟨rfl, hb6⟩
  have HB6 := Lib.hid (HB5.out.trans (hb6.mono HB5.out.size))
  have x_6 := Lib.hid (x_5.out.up hb6)
  have y_6 := Lib.hid (y_5.out.up hb6)
  clear x_5
  clear y_5
  clear hb6
  obtain ⟨hk, hb⟩ := kf_of w6 false false 0
  obtain ⟨w7, hw⟩ : ∃ x, x = w6.alloc (.cells #[.bool false, .bool false, .int .i64 0] 24) := ⟨_, rfl⟩
  obtain ⟨g7, hg⟩ : ∃ g, g = w6.heap.size := ⟨_, rfl⟩
  rw [← hw, ← hg] at hk
  rw [← hw] at hb
  have HB7 := Lib.hid (HB6.out.trans (hb.mono HB6.out.size))
  have x_7 := Lib.hid (x_6.out.up hb)
  have y_7 := Lib.hid (y_6.out.up hb)
  clear x_6
  clear y_6
  have z_7 := Lib.hid hk
  have HW7 := Lib.hid hw
  have HG7 := Lib.hid hg
  clear hk hb hw hg
  go_upto_region 11 with fail
  rw [← HW7.out, ← HG7.out]
  clear HW7 HG7
  go_wp2_with fail
  with_reducible refine (HR2.out w7).mono ?_
  rintro e w8 ⟨rfl, hb8⟩
  have HB8 := Lib.hid (HB7.out.trans (hb8.mono HB7.out.size))
  have x_8 := Lib.hid (x_7.out.up hb8)
  have y_8 := Lib.hid (y_7.out.up hb8)
  have z_8 := Lib.hid (z_7.out.up hb8)
  clear x_7
  clear y_7
  clear z_7
  clear hb8
  obtain ⟨hk, hb⟩ := kf_of w8 false false 0
  obtain ⟨w9, hw⟩ : ∃ x, x = w8.alloc (.cells #[.bool false, .bool false, .int .i64 0] 24) := ⟨_, rfl⟩
  obtain ⟨g9, hg⟩ : ∃ g, g = w8.heap.size := ⟨_, rfl⟩
  rw [← hw, ← hg] at hk
  rw [← hw] at hb
  have HB9 := Lib.hid (HB8.out.trans (hb.mono HB8.out.size))
  have x_9 := Lib.hid (x_8.out.up hb)
  have y_9 := Lib.hid (y_8.out.up hb)
  have z_9 := Lib.hid (z_8.out.up hb)
  clear x_8
  clear y_8
  clear z_8
  have u_9 := Lib.hid hk
  have HW9 := Lib.hid hw
  have HG9 := Lib.hid hg
  clear hk hb hw hg
  go_upto_region 12 with fail
  rw [← HW9.out, ← HG9.out]
  clear HW9 HG9
  go_wp2_with fail
  with_reducible refine (HS0.out w9).mono ?_
  rintro e w10 ⟨rfl, hb10⟩
  have HB10 := Lib.hid (HB9.out.trans (hb10.mono HB9.out.size))
  have x_10 := Lib.hid (x_9.out.up hb10)
  have y_10 := Lib.hid (y_9.out.up hb10)
  have z_10 := Lib.hid (z_9.out.up hb10)
  have u_10 := Lib.hid (u_9.out.up hb10)
  clear x_9
  clear y_9
  clear z_9
  clear u_9
  clear hb10
  go_wp2_with fail
  with_reducible refine (HS4.out w10).mono ?_
  rintro e w11 ⟨rfl, hb11⟩
  have HB11 := Lib.hid (HB10.out.trans (hb11.mono HB10.out.size))
  have x_11 := Lib.hid (x_10.out.up hb11)
  have y_11 := Lib.hid (y_10.out.up hb11)
  have z_11 := Lib.hid (z_10.out.up hb11)
  have u_11 := Lib.hid (u_10.out.up hb11)
  clear x_10
  clear y_10
  clear z_10
  clear u_10
  clear hb11
  go_upto_region 15 with fail
  simp only [List.append]
  go_wp2_with fail
  with_reducible refine (HFST.out w11).mono ?_
  rintro e w12 ⟨rfl, hb12⟩
  have HB12 := Lib.hid (HB11.out.trans (hb12.mono HB11.out.size))
  have x_12 := Lib.hid (x_11.out.up hb12)
  have y_12 := Lib.hid (y_11.out.up hb12)
  have z_12 := Lib.hid (z_11.out.up hb12)
  have u_12 := Lib.hid (u_11.out.up hb12)
  clear x_11
  clear y_11
  clear z_11
  clear u_11
  clear hb12
  obtain ⟨x0, x1, x2⟩ := x_12.out.cells
  obtain ⟨y0, y1, y2⟩ := y_12.out.cells
  obtain ⟨z0, z1, z2⟩ := z_12.out.cells
  obtain ⟨u0, u1, u2⟩ := u_12.out.cells
  go_wp2_with fail
  go_ret
  exact ⟨rfl, HB12.out⟩
theorem walk_any (k : Int) (e : Bool) (w : World) : Calls Try.prog 6 #[.int .i64 k, .bool e] w (YesV w) := by
  by_cases h0 : k < 0
  · exact out_low k e w h0
  · by_cases h9 : 9 < k
    · exact out_high k e w h0 h9
    · by_cases hk : k = 0 ∨ k = 1 ∨ k = 2 ∨ k = 3 ∨ k = 8
      · rcases hk with rfl | rfl | rfl | rfl | rfl
        · exact way0 e w
        · exact way1 e w
        · exact way2 e w
        · exact way3 e w
        · exact way8 e w
      · exact wayo k e w h0 h9 hk
end lifeIdle
end Go.Proofs.Ytkncolgdjnhcoaa
