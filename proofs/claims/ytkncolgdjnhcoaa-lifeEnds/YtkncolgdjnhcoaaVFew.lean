/- first of stage 14; Recv and Send, said outright. -/
import Derived.Test.YtkncolgdjnhcoaaVFace
namespace Go.Proofs.Ytkncolgdjnhcoaa
open Go.RowKit Lf

theorem vrecv_is {s k : Int} {e : Bool} {a : Int} {b c : Bool} {n : Int} (h : recv s k e = ⟨a, b, c, n⟩) (W : World) : Calls Try.prog 8 #[.int .i64 s, .int .i64 k, .bool e] W fun e w' => e = .returned (.tuple #[.int .i64 a, .agg #[.bool b, .bool c, .int .i64 n]]) ∧ Below W.heap.size W w' := by
  have := vrecv_f s k e W
  rw [h] at this
  exact this
theorem vsend_is {s k : Int} {e : Bool} {a : Int} {b : Bool} (h : send s k e = (a, b)) (W : World) : Calls Try.prog 10 #[.int .i64 s, .int .i64 k, .bool e] W fun e w' => e = .returned (.tuple #[.int .i64 a, .bool b]) ∧ Below W.heap.size W w' := by
  have := vsend_f s k e W
  rw [h] at this
  exact this
set_option maxRecDepth 100000 in
set_option maxHeartbeats 2000000 in
theorem first14_any (w : World) : Calls Try.prog 7 #[] w (YesV w) := by
  have HR := Lib.hid (vrecv_is (s := 0) (k := 0) (e := false) rfl w)
  go_enter Try.func7, Try.ntmps7
  go_wp2_with fail
  with_reducible refine (HR.out).mono ?_
  rintro e w1 ⟨rfl, hb1⟩
  obtain ⟨hk, hb⟩ := kf_of w1 true true 1
  obtain ⟨w2, hw⟩ : ∃ x, x = w1.alloc (.cells #[.bool true, .bool true, .int .i64 1] 24) := ⟨_, rfl⟩
  obtain ⟨g, hg⟩ : ∃ g, g = w1.heap.size := ⟨_, rfl⟩
  rw [← hw, ← hg] at hk
  rw [← hw] at hb
  have HB := Lib.hid (hb1.trans (hb.mono hb1.size))
  have HW := Lib.hid hw
  have HG := Lib.hid hg
  obtain ⟨r0, r1, r2⟩ := hk.cells
  clear hb1 hk hb hw hg
  go_upto_region 2 with fail
  rw [← HW.out, ← HG.out]
  go_wp2_with fail
  go_ret
  exact ⟨rfl, HB.out⟩
end Go.Proofs.Ytkncolgdjnhcoaa
