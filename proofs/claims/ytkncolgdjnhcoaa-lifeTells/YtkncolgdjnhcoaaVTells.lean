/- The walk of LifeTells. -/
import Derived.Test.YtkncolgdjnhcoaaVFew
import Derived.Test.YtkncolgdjnhcoaaVFewR
namespace Go.Proofs.Ytkncolgdjnhcoaa
open Go.RowKit Lf

namespace lifeTells
set_option maxRecDepth 100000 in
set_option maxHeartbeats 4000000 in
theorem walk_any (s k : Int) (e : Bool) (w : World) : Calls Try.prog 3 #[.int .i64 s, .int .i64 k, .bool e] w (YesV w) := by
  have HFST := Lib.hid fun (W : World) => first14_any W
  obtain ⟨⟨a, b, c, n⟩, hr⟩ : ∃ r, r = recv s k e := ⟨_, rfl⟩
  obtain ⟨⟨d, o⟩, hs⟩ : ∃ r, r = send s k e := ⟨_, rfl⟩
  have HC1 := Lib.hid fun (W : World) => vrecv_is hr.symm W
  have HC2 := Lib.hid fun (W : World) => rvrecv_is hr.symm W
  have HC3 := Lib.hid fun (W : World) => vsend_is hs.symm W
  have HC4 := Lib.hid fun (W : World) => rvsend_is hs.symm W
  have ea : (a == a) = true := beq_self_eq_true a
  have eb : (b == b) = true := beq_self_eq_true b
  have ec : (c == c) = true := beq_self_eq_true c
  have en : (n == n) = true := beq_self_eq_true n
  have ed : (d == d) = true := beq_self_eq_true d
  have eo : (o == o) = true := beq_self_eq_true o
  clear hr hs
  go_enter Try.func3, Try.ntmps3
  have HB0 := Lib.hid (Below.refl w.heap.size w)
  go_wp2_with fail
  with_reducible refine (HFST.out w).mono ?_
  rintro e w1 ⟨rfl, hb1⟩
  have HB1 := Lib.hid (HB0.out.trans (hb1.mono HB0.out.size))
  clear hb1
  go_wp2_with fail
  with_reducible refine (HC1.out w1).mono ?_
  rintro e w2 ⟨rfl, hb2⟩
  have HB2 := Lib.hid (HB1.out.trans (hb2.mono HB1.out.size))
  clear hb2
  obtain ⟨hk, hb⟩ := kf_of w2 b c n
  obtain ⟨w3, hw⟩ : ∃ x, x = w2.alloc (.cells #[.bool b, .bool c, .int .i64 n] 24) := ⟨_, rfl⟩
  obtain ⟨g3, hg⟩ : ∃ g, g = w2.heap.size := ⟨_, rfl⟩
  rw [← hw, ← hg] at hk
  rw [← hw] at hb
  have HB3 := Lib.hid (HB2.out.trans (hb.mono HB2.out.size))
  have x_3 := Lib.hid hk
  have HW3 := Lib.hid hw
  have HG3 := Lib.hid hg
  clear hk hb hw hg
  go_upto_region 4 with fail
  rw [← HW3.out, ← HG3.out]
  clear HW3 HG3
  go_wp2_with fail
  with_reducible refine (HC2.out w3).mono ?_
  rintro e w4 ⟨rfl, hb4⟩
  have HB4 := Lib.hid (HB3.out.trans (hb4.mono HB3.out.size))
  have x_4 := Lib.hid (x_3.out.up hb4)
  clear x_3
  clear hb4
  obtain ⟨hk, hb⟩ := kf_of w4 b c n
  obtain ⟨w5, hw⟩ : ∃ x, x = w4.alloc (.cells #[.bool b, .bool c, .int .i64 n] 24) := ⟨_, rfl⟩
  obtain ⟨g5, hg⟩ : ∃ g, g = w4.heap.size := ⟨_, rfl⟩
  rw [← hw, ← hg] at hk
  rw [← hw] at hb
  have HB5 := Lib.hid (HB4.out.trans (hb.mono HB4.out.size))
  have x_5 := Lib.hid (x_4.out.up hb)
  clear x_4
  have y_5 := Lib.hid hk
  have HW5 := Lib.hid hw
  have HG5 := Lib.hid hg
  clear hk hb hw hg
  go_upto_region 5 with fail
  rw [← HW5.out, ← HG5.out]
  clear HW5 HG5
  go_wp2_with fail
  with_reducible refine (HC3.out w5).mono ?_
  rintro e w6 ⟨rfl, hb6⟩
  have HB6 := Lib.hid (HB5.out.trans (hb6.mono HB5.out.size))
  have x_6 := Lib.hid (x_5.out.up hb6)
  have y_6 := Lib.hid (y_5.out.up hb6)
  clear x_5
  clear y_5
  clear hb6
  go_wp2_with fail
  with_reducible refine (HC4.out w6).mono ?_
  rintro e w7 ⟨rfl, hb7⟩
  have HB7 := Lib.hid (HB6.out.trans (hb7.mono HB6.out.size))
  have x_7 := Lib.hid (x_6.out.up hb7)
  have y_7 := Lib.hid (y_6.out.up hb7)
  clear x_6
  clear y_6
  clear hb7
  go_wp2_with fail
  with_reducible refine (HFST.out w7).mono ?_
  rintro e w8 ⟨rfl, hb8⟩
  have HB8 := Lib.hid (HB7.out.trans (hb8.mono HB7.out.size))
  have x_8 := Lib.hid (x_7.out.up hb8)
  have y_8 := Lib.hid (y_7.out.up hb8)
  clear x_7
  clear y_7
  clear hb8
  obtain ⟨x0, x1, x2⟩ := x_8.out.cells
  obtain ⟨y0, y1, y2⟩ := y_8.out.cells
  go_wp2
  go_ret
  exact ⟨by simp, HB8.out⟩
end lifeTells
end Go.Proofs.Ytkncolgdjnhcoaa
