/- The walk of LifePairs. -/
import Derived.Test.YtkncolgdjnhcoaaVFew
namespace Go.Proofs.Ytkncolgdjnhcoaa
open Go.RowKit Lf

namespace lifePairs
set_option maxRecDepth 100000 in
set_option maxHeartbeats 4000000 in
theorem way000 (who : Int) (w : World) (h : (bits .and .i64 who 3 == 0) = true) : Calls Try.prog 5 #[.bool false, .bool false, .int .i64 who] w (YesV w) := by
  have HFST := Lib.hid fun (W : World) => first14_any W
  go_enter Try.func5, Try.ntmps5
  have HB0 := Lib.hid (Below.refl w.heap.size w)
  go_wp2_with fail
  with_reducible refine (HFST.out w).mono ?_
  rintro e w1 ⟨rfl, hb1⟩
  have HB1 := Lib.hid (HB0.out.trans (hb1.mono HB0.out.size))
  clear hb1
  go_wp2_with fail
  with_reducible refine (vrecv_is (s := 0) (k := 1) (e := false) (a := 1) (b := false) (c := false) (n := 0) rfl w1).mono ?_
  rintro e w2 ⟨rfl, hb2⟩
  have HB2 := Lib.hid (HB1.out.trans (hb2.mono HB1.out.size))
  clear hb2
  obtain ⟨hk, hb⟩ := kf_of w2 false false 0
  obtain ⟨w3, hw⟩ : ∃ x, x = w2.alloc (.cells #[.bool false, .bool false, .int .i64 0] 24) := ⟨_, rfl⟩
  obtain ⟨g3, hg⟩ : ∃ g, g = w2.heap.size := ⟨_, rfl⟩
  rw [← hw, ← hg] at hk
  rw [← hw] at hb
  have HB3 := Lib.hid (HB2.out.trans (hb.mono HB2.out.size))
  have x_3 := Lib.hid hk
  have HW3 := Lib.hid hw
  have HG3 := Lib.hid hg
  clear hk hb hw hg
  go_upto_region 4 with fail
  rw [← HW3.out, ← HG3.out]
  clear HW3 HG3
  obtain ⟨x0, x1, x2⟩ := x_3.out.cells
  go_wp2_with fail
  with_reducible refine (vrecv_is (s := 1) (k := 3) (e := false) (a := 4) (b := false) (c := false) (n := 0) rfl w3).mono ?_
  rintro e w4 ⟨rfl, hb4⟩
  have HB4 := Lib.hid (HB3.out.trans (hb4.mono HB3.out.size))
  have x_4 := Lib.hid (x_3.out.up hb4)
  clear x_3
  clear hb4
  obtain ⟨hk, hb⟩ := kf_of w4 false false 0
  obtain ⟨w5, hw⟩ : ∃ x, x = w4.alloc (.cells #[.bool false, .bool false, .int .i64 0] 24) := ⟨_, rfl⟩
  obtain ⟨g5, hg⟩ : ∃ g, g = w4.heap.size := ⟨_, rfl⟩
  rw [← hw, ← hg] at hk
  rw [← hw] at hb
  have HB5 := Lib.hid (HB4.out.trans (hb.mono HB4.out.size))
  have x_5 := Lib.hid (x_4.out.up hb)
  clear x_4
  have y_5 := Lib.hid hk
  have HW5 := Lib.hid hw
  have HG5 := Lib.hid hg
  clear hk hb hw hg
  go_upto_region 9 with fail
  rw [← HW5.out, ← HG5.out]
  clear HW5 HG5
  go_wp2_with fail
  with_reducible refine (HFST.out w5).mono ?_
  rintro e w6 ⟨rfl, hb6⟩
  have HB6 := Lib.hid (HB5.out.trans (hb6.mono HB5.out.size))
  have x_6 := Lib.hid (x_5.out.up hb6)
  have y_6 := Lib.hid (y_5.out.up hb6)
  clear x_5
  clear y_5
  clear hb6
  obtain ⟨y0, y1, y2⟩ := y_6.out.cells
  go_wp2_with fail
  go_ret
  exact ⟨rfl, HB6.out⟩
set_option maxRecDepth 100000 in
set_option maxHeartbeats 4000000 in
theorem way001 (who : Int) (w : World) (h : (bits .and .i64 who 3 == 0) = false) (h1 : (bits .and .i64 who 3 == 1) = true) : Calls Try.prog 5 #[.bool false, .bool false, .int .i64 who] w (YesV w) := by
  have HFST := Lib.hid fun (W : World) => first14_any W
  go_enter Try.func5, Try.ntmps5
  have HB0 := Lib.hid (Below.refl w.heap.size w)
  go_wp2_with fail
  with_reducible refine (HFST.out w).mono ?_
  rintro e w1 ⟨rfl, hb1⟩
  have HB1 := Lib.hid (HB0.out.trans (hb1.mono HB0.out.size))
  clear hb1
  go_wp2_with fail
  with_reducible refine (vrecv_is (s := 0) (k := 1) (e := false) (a := 1) (b := false) (c := false) (n := 0) rfl w1).mono ?_
  rintro e w2 ⟨rfl, hb2⟩
  have HB2 := Lib.hid (HB1.out.trans (hb2.mono HB1.out.size))
  clear hb2
  obtain ⟨hk, hb⟩ := kf_of w2 false false 0
  obtain ⟨w3, hw⟩ : ∃ x, x = w2.alloc (.cells #[.bool false, .bool false, .int .i64 0] 24) := ⟨_, rfl⟩
  obtain ⟨g3, hg⟩ : ∃ g, g = w2.heap.size := ⟨_, rfl⟩
  rw [← hw, ← hg] at hk
  rw [← hw] at hb
  have HB3 := Lib.hid (HB2.out.trans (hb.mono HB2.out.size))
  have x_3 := Lib.hid hk
  have HW3 := Lib.hid hw
  have HG3 := Lib.hid hg
  clear hk hb hw hg
  go_upto_region 4 with fail
  rw [← HW3.out, ← HG3.out]
  clear HW3 HG3
  obtain ⟨x0, x1, x2⟩ := x_3.out.cells
  go_wp2_with fail
  with_reducible refine (vsend_is (s := 1) (k := 3) (e := false) (a := 5) (b := true) rfl w3).mono ?_
  rintro e w4 ⟨rfl, hb4⟩
  have HB4 := Lib.hid (HB3.out.trans (hb4.mono HB3.out.size))
  have x_4 := Lib.hid (x_3.out.up hb4)
  clear x_3
  clear hb4
  go_wp2_with fail
  with_reducible refine (HFST.out w4).mono ?_
  rintro e w5 ⟨rfl, hb5⟩
  have HB5 := Lib.hid (HB4.out.trans (hb5.mono HB4.out.size))
  have x_5 := Lib.hid (x_4.out.up hb5)
  clear x_4
  clear hb5
  go_wp2_with fail
  go_ret
  exact ⟨rfl, HB5.out⟩
set_option maxRecDepth 100000 in
set_option maxHeartbeats 4000000 in
theorem way002 (who : Int) (w : World) (h : (bits .and .i64 who 3 == 0) = false) (h1 : (bits .and .i64 who 3 == 1) = false) : Calls Try.prog 5 #[.bool false, .bool false, .int .i64 who] w (YesV w) := by
  have HFST := Lib.hid fun (W : World) => first14_any W
  go_enter Try.func5, Try.ntmps5
  have HB0 := Lib.hid (Below.refl w.heap.size w)
  go_wp2_with fail
  with_reducible refine (HFST.out w).mono ?_
  rintro e w1 ⟨rfl, hb1⟩
  have HB1 := Lib.hid (HB0.out.trans (hb1.mono HB0.out.size))
  clear hb1
  go_wp2_with fail
  with_reducible refine (vrecv_is (s := 0) (k := 1) (e := false) (a := 1) (b := false) (c := false) (n := 0) rfl w1).mono ?_
  rintro e w2 ⟨rfl, hb2⟩
  have HB2 := Lib.hid (HB1.out.trans (hb2.mono HB1.out.size))
  clear hb2
  obtain ⟨hk, hb⟩ := kf_of w2 false false 0
  obtain ⟨w3, hw⟩ : ∃ x, x = w2.alloc (.cells #[.bool false, .bool false, .int .i64 0] 24) := ⟨_, rfl⟩
  obtain ⟨g3, hg⟩ : ∃ g, g = w2.heap.size := ⟨_, rfl⟩
  rw [← hw, ← hg] at hk
  rw [← hw] at hb
  have HB3 := Lib.hid (HB2.out.trans (hb.mono HB2.out.size))
  have x_3 := Lib.hid hk
  have HW3 := Lib.hid hw
  have HG3 := Lib.hid hg
  clear hk hb hw hg
  go_upto_region 4 with fail
  rw [← HW3.out, ← HG3.out]
  clear HW3 HG3
  obtain ⟨x0, x1, x2⟩ := x_3.out.cells
  go_wp2_with fail
  with_reducible refine (vsend_is (s := 1) (k := 1) (e := false) (a := 1) (b := true) rfl w3).mono ?_
  rintro e w4 ⟨rfl, hb4⟩
  have HB4 := Lib.hid (HB3.out.trans (hb4.mono HB3.out.size))
  have x_4 := Lib.hid (x_3.out.up hb4)
  clear x_3
  clear hb4
  go_wp2_with fail
  with_reducible refine (vsend_is (s := 1) (k := 0) (e := true) (a := 3) (b := true) rfl w4).mono ?_
  rintro e w5 ⟨rfl, hb5⟩
  have HB5 := Lib.hid (HB4.out.trans (hb5.mono HB4.out.size))
  have x_5 := Lib.hid (x_4.out.up hb5)
  clear x_4
  clear hb5
  go_wp2_with fail
  with_reducible refine (HFST.out w5).mono ?_
  rintro e w6 ⟨rfl, hb6⟩
  have HB6 := Lib.hid (HB5.out.trans (hb6.mono HB5.out.size))
  have x_6 := Lib.hid (x_5.out.up hb6)
  clear x_5
  clear hb6
  go_wp2_with fail
  go_ret
  exact ⟨rfl, HB6.out⟩
set_option maxRecDepth 100000 in
set_option maxHeartbeats 4000000 in
theorem way010 (who : Int) (w : World) (h : (bits .and .i64 who 3 == 0) = true) : Calls Try.prog 5 #[.bool false, .bool true, .int .i64 who] w (YesV w) := by
  have HFST := Lib.hid fun (W : World) => first14_any W
  go_enter Try.func5, Try.ntmps5
  have HB0 := Lib.hid (Below.refl w.heap.size w)
  go_wp2_with fail
  with_reducible refine (HFST.out w).mono ?_
  rintro e w1 ⟨rfl, hb1⟩
  have HB1 := Lib.hid (HB0.out.trans (hb1.mono HB0.out.size))
  clear hb1
  go_wp2_with fail
  with_reducible refine (vrecv_is (s := 0) (k := 1) (e := true) (a := 2) (b := false) (c := false) (n := 0) rfl w1).mono ?_
  rintro e w2 ⟨rfl, hb2⟩
  have HB2 := Lib.hid (HB1.out.trans (hb2.mono HB1.out.size))
  clear hb2
  obtain ⟨hk, hb⟩ := kf_of w2 false false 0
  obtain ⟨w3, hw⟩ : ∃ x, x = w2.alloc (.cells #[.bool false, .bool false, .int .i64 0] 24) := ⟨_, rfl⟩
  obtain ⟨g3, hg⟩ : ∃ g, g = w2.heap.size := ⟨_, rfl⟩
  rw [← hw, ← hg] at hk
  rw [← hw] at hb
  have HB3 := Lib.hid (HB2.out.trans (hb.mono HB2.out.size))
  have x_3 := Lib.hid hk
  have HW3 := Lib.hid hw
  have HG3 := Lib.hid hg
  clear hk hb hw hg
  go_upto_region 4 with fail
  rw [← HW3.out, ← HG3.out]
  clear HW3 HG3
  obtain ⟨x0, x1, x2⟩ := x_3.out.cells
  go_wp2_with fail
  with_reducible refine (vrecv_is (s := 2) (k := 3) (e := false) (a := 4) (b := false) (c := false) (n := 0) rfl w3).mono ?_
  rintro e w4 ⟨rfl, hb4⟩
  have HB4 := Lib.hid (HB3.out.trans (hb4.mono HB3.out.size))
  have x_4 := Lib.hid (x_3.out.up hb4)
  clear x_3
  clear hb4
  obtain ⟨hk, hb⟩ := kf_of w4 false false 0
  obtain ⟨w5, hw⟩ : ∃ x, x = w4.alloc (.cells #[.bool false, .bool false, .int .i64 0] 24) := ⟨_, rfl⟩
  obtain ⟨g5, hg⟩ : ∃ g, g = w4.heap.size := ⟨_, rfl⟩
  rw [← hw, ← hg] at hk
  rw [← hw] at hb
  have HB5 := Lib.hid (HB4.out.trans (hb.mono HB4.out.size))
  have x_5 := Lib.hid (x_4.out.up hb)
  clear x_4
  have y_5 := Lib.hid hk
  have HW5 := Lib.hid hw
  have HG5 := Lib.hid hg
  clear hk hb hw hg
  go_upto_region 9 with fail
  rw [← HW5.out, ← HG5.out]
  clear HW5 HG5
  go_wp2_with fail
  with_reducible refine (HFST.out w5).mono ?_
  rintro e w6 ⟨rfl, hb6⟩
  have HB6 := Lib.hid (HB5.out.trans (hb6.mono HB5.out.size))
  have x_6 := Lib.hid (x_5.out.up hb6)
  have y_6 := Lib.hid (y_5.out.up hb6)
  clear x_5
  clear y_5
  clear hb6
  obtain ⟨y0, y1, y2⟩ := y_6.out.cells
  go_wp2_with fail
  go_ret
  exact ⟨rfl, HB6.out⟩
set_option maxRecDepth 100000 in
set_option maxHeartbeats 4000000 in
theorem way011 (who : Int) (w : World) (h : (bits .and .i64 who 3 == 0) = false) (h1 : (bits .and .i64 who 3 == 1) = true) : Calls Try.prog 5 #[.bool false, .bool true, .int .i64 who] w (YesV w) := by
  have HFST := Lib.hid fun (W : World) => first14_any W
  go_enter Try.func5, Try.ntmps5
  have HB0 := Lib.hid (Below.refl w.heap.size w)
  go_wp2_with fail
  with_reducible refine (HFST.out w).mono ?_
  rintro e w1 ⟨rfl, hb1⟩
  have HB1 := Lib.hid (HB0.out.trans (hb1.mono HB0.out.size))
  clear hb1
  go_wp2_with fail
  with_reducible refine (vrecv_is (s := 0) (k := 1) (e := true) (a := 2) (b := false) (c := false) (n := 0) rfl w1).mono ?_
  rintro e w2 ⟨rfl, hb2⟩
  have HB2 := Lib.hid (HB1.out.trans (hb2.mono HB1.out.size))
  clear hb2
  obtain ⟨hk, hb⟩ := kf_of w2 false false 0
  obtain ⟨w3, hw⟩ : ∃ x, x = w2.alloc (.cells #[.bool false, .bool false, .int .i64 0] 24) := ⟨_, rfl⟩
  obtain ⟨g3, hg⟩ : ∃ g, g = w2.heap.size := ⟨_, rfl⟩
  rw [← hw, ← hg] at hk
  rw [← hw] at hb
  have HB3 := Lib.hid (HB2.out.trans (hb.mono HB2.out.size))
  have x_3 := Lib.hid hk
  have HW3 := Lib.hid hw
  have HG3 := Lib.hid hg
  clear hk hb hw hg
  go_upto_region 4 with fail
  rw [← HW3.out, ← HG3.out]
  clear HW3 HG3
  obtain ⟨x0, x1, x2⟩ := x_3.out.cells
  go_wp2_with fail
  with_reducible refine (vsend_is (s := 2) (k := 3) (e := false) (a := 5) (b := true) rfl w3).mono ?_
  rintro e w4 ⟨rfl, hb4⟩
  have HB4 := Lib.hid (HB3.out.trans (hb4.mono HB3.out.size))
  have x_4 := Lib.hid (x_3.out.up hb4)
  clear x_3
  clear hb4
  go_wp2_with fail
  with_reducible refine (HFST.out w4).mono ?_
  rintro e w5 ⟨rfl, hb5⟩
  have HB5 := Lib.hid (HB4.out.trans (hb5.mono HB4.out.size))
  have x_5 := Lib.hid (x_4.out.up hb5)
  clear x_4
  clear hb5
  go_wp2_with fail
  go_ret
  exact ⟨rfl, HB5.out⟩
set_option maxRecDepth 100000 in
set_option maxHeartbeats 4000000 in
theorem way012 (who : Int) (w : World) (h : (bits .and .i64 who 3 == 0) = false) (h1 : (bits .and .i64 who 3 == 1) = false) : Calls Try.prog 5 #[.bool false, .bool true, .int .i64 who] w (YesV w) := by
  have HFST := Lib.hid fun (W : World) => first14_any W
  go_enter Try.func5, Try.ntmps5
  have HB0 := Lib.hid (Below.refl w.heap.size w)
  go_wp2_with fail
  with_reducible refine (HFST.out w).mono ?_
  rintro e w1 ⟨rfl, hb1⟩
  have HB1 := Lib.hid (HB0.out.trans (hb1.mono HB0.out.size))
  clear hb1
  go_wp2_with fail
  with_reducible refine (vrecv_is (s := 0) (k := 1) (e := true) (a := 2) (b := false) (c := false) (n := 0) rfl w1).mono ?_
  rintro e w2 ⟨rfl, hb2⟩
  have HB2 := Lib.hid (HB1.out.trans (hb2.mono HB1.out.size))
  clear hb2
  obtain ⟨hk, hb⟩ := kf_of w2 false false 0
  obtain ⟨w3, hw⟩ : ∃ x, x = w2.alloc (.cells #[.bool false, .bool false, .int .i64 0] 24) := ⟨_, rfl⟩
  obtain ⟨g3, hg⟩ : ∃ g, g = w2.heap.size := ⟨_, rfl⟩
  rw [← hw, ← hg] at hk
  rw [← hw] at hb
  have HB3 := Lib.hid (HB2.out.trans (hb.mono HB2.out.size))
  have x_3 := Lib.hid hk
  have HW3 := Lib.hid hw
  have HG3 := Lib.hid hg
  clear hk hb hw hg
  go_upto_region 4 with fail
  rw [← HW3.out, ← HG3.out]
  clear HW3 HG3
  obtain ⟨x0, x1, x2⟩ := x_3.out.cells
  go_wp2_with fail
  with_reducible refine (vsend_is (s := 2) (k := 1) (e := false) (a := 2) (b := true) rfl w3).mono ?_
  rintro e w4 ⟨rfl, hb4⟩
  have HB4 := Lib.hid (HB3.out.trans (hb4.mono HB3.out.size))
  have x_4 := Lib.hid (x_3.out.up hb4)
  clear x_3
  clear hb4
  go_wp2_with fail
  with_reducible refine (vsend_is (s := 2) (k := 0) (e := true) (a := 4) (b := true) rfl w4).mono ?_
  rintro e w5 ⟨rfl, hb5⟩
  have HB5 := Lib.hid (HB4.out.trans (hb5.mono HB4.out.size))
  have x_5 := Lib.hid (x_4.out.up hb5)
  clear x_4
  clear hb5
  go_wp2_with fail
  with_reducible refine (HFST.out w5).mono ?_
  rintro e w6 ⟨rfl, hb6⟩
  have HB6 := Lib.hid (HB5.out.trans (hb6.mono HB5.out.size))
  have x_6 := Lib.hid (x_5.out.up hb6)
  clear x_5
  clear hb6
  go_wp2_with fail
  go_ret
  exact ⟨rfl, HB6.out⟩
set_option maxRecDepth 100000 in
set_option maxHeartbeats 4000000 in
theorem way100 (who : Int) (w : World) (h : (bits .and .i64 who 3 == 0) = true) : Calls Try.prog 5 #[.bool true, .bool false, .int .i64 who] w (YesV w) := by
  have HFST := Lib.hid fun (W : World) => first14_any W
  go_enter Try.func5, Try.ntmps5
  have HB0 := Lib.hid (Below.refl w.heap.size w)
  go_wp2_with fail
  with_reducible refine (HFST.out w).mono ?_
  rintro e w1 ⟨rfl, hb1⟩
  have HB1 := Lib.hid (HB0.out.trans (hb1.mono HB0.out.size))
  clear hb1
  go_wp2_with fail
  with_reducible refine (vrecv_is (s := 0) (k := 1) (e := false) (a := 1) (b := false) (c := false) (n := 0) rfl w1).mono ?_
  rintro e w2 ⟨rfl, hb2⟩
  have HB2 := Lib.hid (HB1.out.trans (hb2.mono HB1.out.size))
  clear hb2
  obtain ⟨hk, hb⟩ := kf_of w2 false false 0
  obtain ⟨w3, hw⟩ : ∃ x, x = w2.alloc (.cells #[.bool false, .bool false, .int .i64 0] 24) := ⟨_, rfl⟩
  obtain ⟨g3, hg⟩ : ∃ g, g = w2.heap.size := ⟨_, rfl⟩
  rw [← hw, ← hg] at hk
  rw [← hw] at hb
  have HB3 := Lib.hid (HB2.out.trans (hb.mono HB2.out.size))
  have x_3 := Lib.hid hk
  have HW3 := Lib.hid hw
  have HG3 := Lib.hid hg
  clear hk hb hw hg
  go_upto_region 4 with fail
  rw [← HW3.out, ← HG3.out]
  clear HW3 HG3
  obtain ⟨x0, x1, x2⟩ := x_3.out.cells
  go_wp2_with fail
  with_reducible refine (vrecv_is (s := 1) (k := 3) (e := false) (a := 4) (b := false) (c := false) (n := 0) rfl w3).mono ?_
  rintro e w4 ⟨rfl, hb4⟩
  have HB4 := Lib.hid (HB3.out.trans (hb4.mono HB3.out.size))
  have x_4 := Lib.hid (x_3.out.up hb4)
  clear x_3
  clear hb4
  obtain ⟨hk, hb⟩ := kf_of w4 false false 0
  obtain ⟨w5, hw⟩ : ∃ x, x = w4.alloc (.cells #[.bool false, .bool false, .int .i64 0] 24) := ⟨_, rfl⟩
  obtain ⟨g5, hg⟩ : ∃ g, g = w4.heap.size := ⟨_, rfl⟩
  rw [← hw, ← hg] at hk
  rw [← hw] at hb
  have HB5 := Lib.hid (HB4.out.trans (hb.mono HB4.out.size))
  have x_5 := Lib.hid (x_4.out.up hb)
  clear x_4
  have y_5 := Lib.hid hk
  have HW5 := Lib.hid hw
  have HG5 := Lib.hid hg
  clear hk hb hw hg
  go_upto_region 9 with fail
  rw [← HW5.out, ← HG5.out]
  clear HW5 HG5
  go_wp2_with fail
  with_reducible refine (HFST.out w5).mono ?_
  rintro e w6 ⟨rfl, hb6⟩
  have HB6 := Lib.hid (HB5.out.trans (hb6.mono HB5.out.size))
  have x_6 := Lib.hid (x_5.out.up hb6)
  have y_6 := Lib.hid (y_5.out.up hb6)
  clear x_5
  clear y_5
  clear hb6
  obtain ⟨y0, y1, y2⟩ := y_6.out.cells
  go_wp2_with fail
  go_ret
  exact ⟨rfl, HB6.out⟩
set_option maxRecDepth 100000 in
set_option maxHeartbeats 4000000 in
theorem way101 (who : Int) (w : World) (h : (bits .and .i64 who 3 == 0) = false) (h1 : (bits .and .i64 who 3 == 1) = true) : Calls Try.prog 5 #[.bool true, .bool false, .int .i64 who] w (YesV w) := by
  have HFST := Lib.hid fun (W : World) => first14_any W
  go_enter Try.func5, Try.ntmps5
  have HB0 := Lib.hid (Below.refl w.heap.size w)
  go_wp2_with fail
  with_reducible refine (HFST.out w).mono ?_
  rintro e w1 ⟨rfl, hb1⟩
  have HB1 := Lib.hid (HB0.out.trans (hb1.mono HB0.out.size))
  clear hb1
  go_wp2_with fail
  with_reducible refine (vrecv_is (s := 0) (k := 1) (e := false) (a := 1) (b := false) (c := false) (n := 0) rfl w1).mono ?_
  rintro e w2 ⟨rfl, hb2⟩
  have HB2 := Lib.hid (HB1.out.trans (hb2.mono HB1.out.size))
  clear hb2
  obtain ⟨hk, hb⟩ := kf_of w2 false false 0
  obtain ⟨w3, hw⟩ : ∃ x, x = w2.alloc (.cells #[.bool false, .bool false, .int .i64 0] 24) := ⟨_, rfl⟩
  obtain ⟨g3, hg⟩ : ∃ g, g = w2.heap.size := ⟨_, rfl⟩
  rw [← hw, ← hg] at hk
  rw [← hw] at hb
  have HB3 := Lib.hid (HB2.out.trans (hb.mono HB2.out.size))
  have x_3 := Lib.hid hk
  have HW3 := Lib.hid hw
  have HG3 := Lib.hid hg
  clear hk hb hw hg
  go_upto_region 4 with fail
  rw [← HW3.out, ← HG3.out]
  clear HW3 HG3
  obtain ⟨x0, x1, x2⟩ := x_3.out.cells
  go_wp2_with fail
  with_reducible refine (vsend_is (s := 1) (k := 3) (e := false) (a := 5) (b := true) rfl w3).mono ?_
  rintro e w4 ⟨rfl, hb4⟩
  have HB4 := Lib.hid (HB3.out.trans (hb4.mono HB3.out.size))
  have x_4 := Lib.hid (x_3.out.up hb4)
  clear x_3
  clear hb4
  go_wp2_with fail
  with_reducible refine (HFST.out w4).mono ?_
  rintro e w5 ⟨rfl, hb5⟩
  have HB5 := Lib.hid (HB4.out.trans (hb5.mono HB4.out.size))
  have x_5 := Lib.hid (x_4.out.up hb5)
  clear x_4
  clear hb5
  go_wp2_with fail
  go_ret
  exact ⟨rfl, HB5.out⟩
set_option maxRecDepth 100000 in
set_option maxHeartbeats 4000000 in
theorem way102 (who : Int) (w : World) (h : (bits .and .i64 who 3 == 0) = false) (h1 : (bits .and .i64 who 3 == 1) = false) : Calls Try.prog 5 #[.bool true, .bool false, .int .i64 who] w (YesV w) := by
  have HFST := Lib.hid fun (W : World) => first14_any W
  go_enter Try.func5, Try.ntmps5
  have HB0 := Lib.hid (Below.refl w.heap.size w)
  go_wp2_with fail
  with_reducible refine (HFST.out w).mono ?_
  rintro e w1 ⟨rfl, hb1⟩
  have HB1 := Lib.hid (HB0.out.trans (hb1.mono HB0.out.size))
  clear hb1
  go_wp2_with fail
  with_reducible refine (vrecv_is (s := 0) (k := 1) (e := false) (a := 1) (b := false) (c := false) (n := 0) rfl w1).mono ?_
  rintro e w2 ⟨rfl, hb2⟩
  have HB2 := Lib.hid (HB1.out.trans (hb2.mono HB1.out.size))
  clear hb2
  obtain ⟨hk, hb⟩ := kf_of w2 false false 0
  obtain ⟨w3, hw⟩ : ∃ x, x = w2.alloc (.cells #[.bool false, .bool false, .int .i64 0] 24) := ⟨_, rfl⟩
  obtain ⟨g3, hg⟩ : ∃ g, g = w2.heap.size := ⟨_, rfl⟩
  rw [← hw, ← hg] at hk
  rw [← hw] at hb
  have HB3 := Lib.hid (HB2.out.trans (hb.mono HB2.out.size))
  have x_3 := Lib.hid hk
  have HW3 := Lib.hid hw
  have HG3 := Lib.hid hg
  clear hk hb hw hg
  go_upto_region 4 with fail
  rw [← HW3.out, ← HG3.out]
  clear HW3 HG3
  obtain ⟨x0, x1, x2⟩ := x_3.out.cells
  go_wp2_with fail
  with_reducible refine (vsend_is (s := 1) (k := 1) (e := true) (a := 3) (b := true) rfl w3).mono ?_
  rintro e w4 ⟨rfl, hb4⟩
  have HB4 := Lib.hid (HB3.out.trans (hb4.mono HB3.out.size))
  have x_4 := Lib.hid (x_3.out.up hb4)
  clear x_3
  clear hb4
  go_wp2_with fail
  with_reducible refine (vrecv_is (s := 3) (k := 0) (e := true) (a := 4) (b := false) (c := false) (n := 0) rfl w4).mono ?_
  rintro e w5 ⟨rfl, hb5⟩
  have HB5 := Lib.hid (HB4.out.trans (hb5.mono HB4.out.size))
  have x_5 := Lib.hid (x_4.out.up hb5)
  clear x_4
  clear hb5
  obtain ⟨hk, hb⟩ := kf_of w5 false false 0
  obtain ⟨w6, hw⟩ : ∃ x, x = w5.alloc (.cells #[.bool false, .bool false, .int .i64 0] 24) := ⟨_, rfl⟩
  obtain ⟨g6, hg⟩ : ∃ g, g = w5.heap.size := ⟨_, rfl⟩
  rw [← hw, ← hg] at hk
  rw [← hw] at hb
  have HB6 := Lib.hid (HB5.out.trans (hb.mono HB5.out.size))
  have x_6 := Lib.hid (x_5.out.up hb)
  clear x_5
  have y_6 := Lib.hid hk
  have HW6 := Lib.hid hw
  have HG6 := Lib.hid hg
  clear hk hb hw hg
  go_upto_region 20 with fail
  rw [← HW6.out, ← HG6.out]
  clear HW6 HG6
  go_wp2_with fail
  with_reducible refine (vsend_is (s := 3) (k := 0) (e := false) (a := 3) (b := false) rfl w6).mono ?_
  rintro e w7 ⟨rfl, hb7⟩
  have HB7 := Lib.hid (HB6.out.trans (hb7.mono HB6.out.size))
  have x_7 := Lib.hid (x_6.out.up hb7)
  have y_7 := Lib.hid (y_6.out.up hb7)
  clear x_6
  clear y_6
  clear hb7
  go_wp2_with fail
  with_reducible refine (HFST.out w7).mono ?_
  rintro e w8 ⟨rfl, hb8⟩
  have HB8 := Lib.hid (HB7.out.trans (hb8.mono HB7.out.size))
  have x_8 := Lib.hid (x_7.out.up hb8)
  have y_8 := Lib.hid (y_7.out.up hb8)
  clear x_7
  clear y_7
  clear hb8
  obtain ⟨y0, y1, y2⟩ := y_8.out.cells
  go_wp2_with fail
  go_ret
  exact ⟨rfl, HB8.out⟩
set_option maxRecDepth 100000 in
set_option maxHeartbeats 4000000 in
theorem way110 (who : Int) (w : World) (h : (bits .and .i64 who 3 == 0) = true) : Calls Try.prog 5 #[.bool true, .bool true, .int .i64 who] w (YesV w) := by
  have HFST := Lib.hid fun (W : World) => first14_any W
  go_enter Try.func5, Try.ntmps5
  have HB0 := Lib.hid (Below.refl w.heap.size w)
  go_wp2_with fail
  with_reducible refine (HFST.out w).mono ?_
  rintro e w1 ⟨rfl, hb1⟩
  have HB1 := Lib.hid (HB0.out.trans (hb1.mono HB0.out.size))
  clear hb1
  go_wp2_with fail
  with_reducible refine (vrecv_is (s := 0) (k := 1) (e := true) (a := 2) (b := false) (c := false) (n := 0) rfl w1).mono ?_
  rintro e w2 ⟨rfl, hb2⟩
  have HB2 := Lib.hid (HB1.out.trans (hb2.mono HB1.out.size))
  clear hb2
  obtain ⟨hk, hb⟩ := kf_of w2 false false 0
  obtain ⟨w3, hw⟩ : ∃ x, x = w2.alloc (.cells #[.bool false, .bool false, .int .i64 0] 24) := ⟨_, rfl⟩
  obtain ⟨g3, hg⟩ : ∃ g, g = w2.heap.size := ⟨_, rfl⟩
  rw [← hw, ← hg] at hk
  rw [← hw] at hb
  have HB3 := Lib.hid (HB2.out.trans (hb.mono HB2.out.size))
  have x_3 := Lib.hid hk
  have HW3 := Lib.hid hw
  have HG3 := Lib.hid hg
  clear hk hb hw hg
  go_upto_region 4 with fail
  rw [← HW3.out, ← HG3.out]
  clear HW3 HG3
  obtain ⟨x0, x1, x2⟩ := x_3.out.cells
  go_wp2_with fail
  with_reducible refine (vrecv_is (s := 2) (k := 3) (e := false) (a := 4) (b := false) (c := false) (n := 0) rfl w3).mono ?_
  rintro e w4 ⟨rfl, hb4⟩
  have HB4 := Lib.hid (HB3.out.trans (hb4.mono HB3.out.size))
  have x_4 := Lib.hid (x_3.out.up hb4)
  clear x_3
  clear hb4
  obtain ⟨hk, hb⟩ := kf_of w4 false false 0
  obtain ⟨w5, hw⟩ : ∃ x, x = w4.alloc (.cells #[.bool false, .bool false, .int .i64 0] 24) := ⟨_, rfl⟩
  obtain ⟨g5, hg⟩ : ∃ g, g = w4.heap.size := ⟨_, rfl⟩
  rw [← hw, ← hg] at hk
  rw [← hw] at hb
  have HB5 := Lib.hid (HB4.out.trans (hb.mono HB4.out.size))
  have x_5 := Lib.hid (x_4.out.up hb)
  clear x_4
  have y_5 := Lib.hid hk
  have HW5 := Lib.hid hw
  have HG5 := Lib.hid hg
  clear hk hb hw hg
  go_upto_region 9 with fail
  rw [← HW5.out, ← HG5.out]
  clear HW5 HG5
  go_wp2_with fail
  with_reducible refine (HFST.out w5).mono ?_
  rintro e w6 ⟨rfl, hb6⟩
  have HB6 := Lib.hid (HB5.out.trans (hb6.mono HB5.out.size))
  have x_6 := Lib.hid (x_5.out.up hb6)
  have y_6 := Lib.hid (y_5.out.up hb6)
  clear x_5
  clear y_5
  clear hb6
  obtain ⟨y0, y1, y2⟩ := y_6.out.cells
  go_wp2_with fail
  go_ret
  exact ⟨rfl, HB6.out⟩
set_option maxRecDepth 100000 in
set_option maxHeartbeats 4000000 in
theorem way111 (who : Int) (w : World) (h : (bits .and .i64 who 3 == 0) = false) (h1 : (bits .and .i64 who 3 == 1) = true) : Calls Try.prog 5 #[.bool true, .bool true, .int .i64 who] w (YesV w) := by
  have HFST := Lib.hid fun (W : World) => first14_any W
  go_enter Try.func5, Try.ntmps5
  have HB0 := Lib.hid (Below.refl w.heap.size w)
  go_wp2_with fail
  with_reducible refine (HFST.out w).mono ?_
  rintro e w1 ⟨rfl, hb1⟩
  have HB1 := Lib.hid (HB0.out.trans (hb1.mono HB0.out.size))
  clear hb1
  go_wp2_with fail
  with_reducible refine (vrecv_is (s := 0) (k := 1) (e := true) (a := 2) (b := false) (c := false) (n := 0) rfl w1).mono ?_
  rintro e w2 ⟨rfl, hb2⟩
  have HB2 := Lib.hid (HB1.out.trans (hb2.mono HB1.out.size))
  clear hb2
  obtain ⟨hk, hb⟩ := kf_of w2 false false 0
  obtain ⟨w3, hw⟩ : ∃ x, x = w2.alloc (.cells #[.bool false, .bool false, .int .i64 0] 24) := ⟨_, rfl⟩
  obtain ⟨g3, hg⟩ : ∃ g, g = w2.heap.size := ⟨_, rfl⟩
  rw [← hw, ← hg] at hk
  rw [← hw] at hb
  have HB3 := Lib.hid (HB2.out.trans (hb.mono HB2.out.size))
  have x_3 := Lib.hid hk
  have HW3 := Lib.hid hw
  have HG3 := Lib.hid hg
  clear hk hb hw hg
  go_upto_region 4 with fail
  rw [← HW3.out, ← HG3.out]
  clear HW3 HG3
  obtain ⟨x0, x1, x2⟩ := x_3.out.cells
  go_wp2_with fail
  with_reducible refine (vsend_is (s := 2) (k := 3) (e := false) (a := 5) (b := true) rfl w3).mono ?_
  rintro e w4 ⟨rfl, hb4⟩
  have HB4 := Lib.hid (HB3.out.trans (hb4.mono HB3.out.size))
  have x_4 := Lib.hid (x_3.out.up hb4)
  clear x_3
  clear hb4
  go_wp2_with fail
  with_reducible refine (HFST.out w4).mono ?_
  rintro e w5 ⟨rfl, hb5⟩
  have HB5 := Lib.hid (HB4.out.trans (hb5.mono HB4.out.size))
  have x_5 := Lib.hid (x_4.out.up hb5)
  clear x_4
  clear hb5
  go_wp2_with fail
  go_ret
  exact ⟨rfl, HB5.out⟩
set_option maxRecDepth 100000 in
set_option maxHeartbeats 4000000 in
theorem way112 (who : Int) (w : World) (h : (bits .and .i64 who 3 == 0) = false) (h1 : (bits .and .i64 who 3 == 1) = false) : Calls Try.prog 5 #[.bool true, .bool true, .int .i64 who] w (YesV w) := by
  have HFST := Lib.hid fun (W : World) => first14_any W
  go_enter Try.func5, Try.ntmps5
  have HB0 := Lib.hid (Below.refl w.heap.size w)
  go_wp2_with fail
  with_reducible refine (HFST.out w).mono ?_
  rintro e w1 ⟨rfl, hb1⟩
  have HB1 := Lib.hid (HB0.out.trans (hb1.mono HB0.out.size))
  clear hb1
  go_wp2_with fail
  with_reducible refine (vrecv_is (s := 0) (k := 1) (e := true) (a := 2) (b := false) (c := false) (n := 0) rfl w1).mono ?_
  rintro e w2 ⟨rfl, hb2⟩
  have HB2 := Lib.hid (HB1.out.trans (hb2.mono HB1.out.size))
  clear hb2
  obtain ⟨hk, hb⟩ := kf_of w2 false false 0
  obtain ⟨w3, hw⟩ : ∃ x, x = w2.alloc (.cells #[.bool false, .bool false, .int .i64 0] 24) := ⟨_, rfl⟩
  obtain ⟨g3, hg⟩ : ∃ g, g = w2.heap.size := ⟨_, rfl⟩
  rw [← hw, ← hg] at hk
  rw [← hw] at hb
  have HB3 := Lib.hid (HB2.out.trans (hb.mono HB2.out.size))
  have x_3 := Lib.hid hk
  have HW3 := Lib.hid hw
  have HG3 := Lib.hid hg
  clear hk hb hw hg
  go_upto_region 4 with fail
  rw [← HW3.out, ← HG3.out]
  clear HW3 HG3
  obtain ⟨x0, x1, x2⟩ := x_3.out.cells
  go_wp2_with fail
  with_reducible refine (vsend_is (s := 2) (k := 1) (e := true) (a := 4) (b := true) rfl w3).mono ?_
  rintro e w4 ⟨rfl, hb4⟩
  have HB4 := Lib.hid (HB3.out.trans (hb4.mono HB3.out.size))
  have x_4 := Lib.hid (x_3.out.up hb4)
  clear x_3
  clear hb4
  go_wp2_with fail
  with_reducible refine (HFST.out w4).mono ?_
  rintro e w5 ⟨rfl, hb5⟩
  have HB5 := Lib.hid (HB4.out.trans (hb5.mono HB4.out.size))
  have x_5 := Lib.hid (x_4.out.up hb5)
  clear x_4
  clear hb5
  go_wp2_with fail
  go_ret
  exact ⟨rfl, HB5.out⟩
theorem walk_any (mine early : Bool) (who : Int) (w : World) : Calls Try.prog 5 #[.bool mine, .bool early, .int .i64 who] w (YesV w) := by
  cases h : (bits .and .i64 who 3 == 0)
  · cases h1 : (bits .and .i64 who 3 == 1)
    · cases mine <;> cases early
      · exact way002 who w h h1
      · exact way012 who w h h1
      · exact way102 who w h h1
      · exact way112 who w h h1
    · cases mine <;> cases early
      · exact way001 who w h h1
      · exact way011 who w h h1
      · exact way101 who w h h1
      · exact way111 who w h h1
  · cases mine <;> cases early
    · exact way000 who w h
    · exact way010 who w h
    · exact way100 who w h
    · exact way110 who w h
end lifePairs
end Go.Proofs.Ytkncolgdjnhcoaa
