/- Shift over the landed code. -/
import Derived.Test.YtmihmngfmlmndaaWFGrant
namespace Go.Proofs.Ytmihmngfmlmndaa
open Go.RowKit Fl Fw

def maxB (x y : Nat) : Nat := match Ieee.double.order x y with
  | some .lt => y
  | some .gt => x
  | some .eq => if (Ieee.double.read x).neg then y else x
  | none => 0
theorem max_whole {x y : Nat} {k l : Int} (h : Whole x k) (h' : Whole y l) : Whole (maxB x y) (max k l) := by
  unfold maxB
  rw [order_whole h h']
  simp only [compare, compareOfLessAndEq]
  by_cases h1 : k < l
  · rw [if_pos h1, Int.max_eq_right (by omega)]; exact h'
  · rw [if_neg h1]
    by_cases h2 : k = l
    · subst h2
      rw [if_pos rfl, Int.max_self]
      show Whole (if _ then y else x) k
      split
      · exact h'
      · exact h
    · rw [if_neg h2, Int.max_eq_left (by omega)]; exact h
theorem run_maxW {x y : Nat} {k l : Int} (h : Whole x k) (h' : Whole y l) (ts : Array TypeId) (t : TypeId) (w : World) : (Builtin.max_ ts t #[.float .f64 x, .float .f64 y]).run Try.prog w = .ok (.float .f64 (maxB x y)) w := by
  have ho : FloatKind.f64.format.order x y = some (compare k l) := order_whole h h'
  have ho' : Ieee.double.order x y = some (compare k l) := ho
  unfold maxB
  rw [ho']
  simp only [Builtin.max_, List.foldlM_cons, List.foldlM_nil, Builtin.max2, ho]
  cases compare k l <;> rfl
set_option maxRecDepth 100000 in
set_option maxHeartbeats 2000000 in
theorem shi_a {a b : Nat} {k l : Int} (h : Zw a b k l) (n : Int) (w : World) (m : Int) (hm : cut n = m) (hn : ¬ n = m) : Calls Try.prog 14 #[.complex .f64 a b, .int .i64 n] w (ZFPost w (0, 0, ⟨true, true, 1⟩)) := by
  have s1 := whole_zero
  have s2 := whole_zero
  have HC := cut_w n
  rw [hm] at HC
  obtain ⟨hk, hb⟩ := kf_of w false false 0
  obtain ⟨w1, hw1⟩ : ∃ x, x = w.alloc (.cells #[.bool false, .bool false, .int .i64 0] 30) := ⟨_, rfl⟩
  obtain ⟨g, hg⟩ : ∃ g, g = w.heap.size := ⟨_, rfl⟩
  rw [← hw1, ← hg] at hk
  rw [← hw1] at hb
  have HG := Lib.hid hg
  have HB := Lib.hid hb
  have HW := Lib.hid hw1
  have H1 := Lib.hid (is_w h w1)
  have H2 := Lib.hid (HC w1)
  have r0 : w1.cell? ⟨g, 0, none⟩ = some (.bool false) := cell_of_row _ g 0 _ 30 _ hk
  have f0 : w1.frozen? ⟨g, 0, none⟩ = false := frozen_of_row _ g 0 _ 30 hk
  have r1 : w1.cell? ⟨g, 1, none⟩ = some (.bool false) := cell_of_row _ g 1 _ 30 _ hk
  have f1 : w1.frozen? ⟨g, 1, none⟩ = false := frozen_of_row _ g 1 _ 30 hk
  have r2 : w1.cell? ⟨g, 2, none⟩ = some (.int .i64 0) := cell_of_row _ g 2 _ 30 _ hk
  have f2 : w1.frozen? ⟨g, 2, none⟩ = false := frozen_of_row _ g 2 _ 30 hk
  have HN : Hid (ZFPost w (0, 0, ⟨true, true, 1⟩) (.returned (.tuple #[.complex .f64 0 0, .agg #[.bool true, .bool true, .int .i64 1]])) (stF w1 g true true 1)) := Lib.hid ⟨_, _, rfl, s1, s2, stF_below HG.out HB.out _ _ _⟩
  clear hk hb hw1 hg h s1 s2 hm HC
  go_enter Try.func14, Try.ntmps14
  go_upto_region 1 with fail
  rw [← HW.out, ← HG.out]
  go_wp2_with fail
  with_reducible refine (H1.out).mono ?_
  rintro e w' ⟨rfl, rfl⟩
  go_wp2_with fail
  with_reducible refine (H2.out).mono ?_
  rintro e w' ⟨rfl, rfl⟩
  go_wp2_with fail
  refine bodyPost_ret (v := .tuple #[.complex .f64 0 0, .agg #[.bool true, .bool true, .int .i64 1]]) (by simp [results, Try.results14, go_sem, r0, r1, r2]) rfl HN.out
set_option maxRecDepth 100000 in
set_option maxHeartbeats 2000000 in
theorem shi_b {a b : Nat} {k l : Int} (h : Zw a b k l) (n : Int) (w : World) (n0 : -2147483647 ≤ n) (n1 : n ≤ 2147483647) (hh : 2147483647 < k + n) : Calls Try.prog 14 #[.complex .f64 a b, .int .i64 n] w (ZFPost w (0, 0, ⟨true, true, 3⟩)) := by
  obtain ⟨_, _, ⟨ka, kb⟩, ⟨la, lb⟩⟩ := id h
  have hi : in_ n := ⟨by omega, by omega⟩
  have HC := cut_w n
  rw [cut_in hi] at HC
  have ws := whole_of hi
  have w0 := whole_of (show in_ 0 by unfold in_; omega)
  have hadd := run_addW h.a' h.b' ws w0 (by omega) (by omega) 23
  have p1 := (add_whole h.a' ws (by omega) (by omega)).2
  have p2 := (add_whole h.b' w0 (by omega) (by omega)).2
  rw [Int.add_zero] at p2
  have o1 := fgt p1 whole_top
  rw [decide_eq_true hh] at o1
  have s1 := whole_zero
  have s2 := whole_zero
  obtain ⟨hk, hb⟩ := kf_of w false false 0
  obtain ⟨w1, hw1⟩ : ∃ x, x = w.alloc (.cells #[.bool false, .bool false, .int .i64 0] 30) := ⟨_, rfl⟩
  obtain ⟨g, hg⟩ : ∃ g, g = w.heap.size := ⟨_, rfl⟩
  rw [← hw1, ← hg] at hk
  rw [← hw1] at hb
  have HG := Lib.hid hg
  have HB := Lib.hid hb
  have HW := Lib.hid hw1
  have H1 := Lib.hid (is_w h w1)
  have H2 := Lib.hid (HC w1)
  have H3 := Lib.hid (pair_w n 0 w1)
  have r0 : w1.cell? ⟨g, 0, none⟩ = some (.bool false) := cell_of_row _ g 0 _ 30 _ hk
  have f0 : w1.frozen? ⟨g, 0, none⟩ = false := frozen_of_row _ g 0 _ 30 hk
  have r1 : w1.cell? ⟨g, 1, none⟩ = some (.bool false) := cell_of_row _ g 1 _ 30 _ hk
  have f1 : w1.frozen? ⟨g, 1, none⟩ = false := frozen_of_row _ g 1 _ 30 hk
  have r2 : w1.cell? ⟨g, 2, none⟩ = some (.int .i64 0) := cell_of_row _ g 2 _ 30 _ hk
  have f2 : w1.frozen? ⟨g, 2, none⟩ = false := frozen_of_row _ g 2 _ 30 hk
  have HN : Hid (ZFPost w (0, 0, ⟨true, true, 3⟩) (.returned (.tuple #[.complex .f64 0 0, .agg #[.bool true, .bool true, .int .i64 3]])) (stF w1 g true true 3)) := Lib.hid ⟨_, _, rfl, s1, s2, stF_below HG.out HB.out _ _ _⟩
  clear hk hb hw1 hg h s1 s2 hi HC ws w0 p1 p2 ka kb la lb n0 n1 hh
  go_enter Try.func14, Try.ntmps14
  go_upto_region 1 with fail
  rw [← HW.out, ← HG.out]
  go_wp2_with fail
  with_reducible refine (H1.out).mono ?_
  rintro e w' ⟨rfl, rfl⟩
  go_wp2_with fail
  with_reducible refine (H2.out).mono ?_
  rintro e w' ⟨rfl, rfl⟩
  go_wp2_with fail
  with_reducible refine (H3.out).mono ?_
  rintro e w' ⟨rfl, rfl⟩
  go_wp2_with fail
  refine bodyPost_ret (v := .tuple #[.complex .f64 0 0, .agg #[.bool true, .bool true, .int .i64 3]]) (by simp [results, Try.results14, go_sem, r0, r1, r2]) rfl HN.out
set_option maxRecDepth 100000 in
set_option maxHeartbeats 2000000 in
theorem shi_c {a b : Nat} {k l : Int} (h : Zw a b k l) (n : Int) (w : World) (n0 : -2147483647 ≤ n) (n1 : n ≤ 2147483647) (hh : ¬ 2147483647 < k + n) : Calls Try.prog 14 #[.complex .f64 a b, .int .i64 n] w (ZFPost w (max (k + n) (-2147483647), l, ⟨false, false, 0⟩)) := by
  obtain ⟨_, _, ⟨ka, kb⟩, ⟨la, lb⟩⟩ := id h
  have hi : in_ n := ⟨by omega, by omega⟩
  have HC := cut_w n
  rw [cut_in hi] at HC
  have ws := whole_of hi
  have w0 := whole_of (show in_ 0 by unfold in_; omega)
  have hadd := run_addW h.a' h.b' ws w0 (by omega) (by omega) 23
  have p1 := (add_whole h.a' ws (by omega) (by omega)).2
  have p2 := (add_whole h.b' w0 (by omega) (by omega)).2
  rw [Int.add_zero] at p2
  have o1 := fgt p1 whole_top
  rw [decide_eq_false hh] at o1
  have hmax := run_maxW p1 whole_low
  have s1 := max_whole p1 whole_low
  have s2 := p2
  obtain ⟨hk, hb⟩ := kf_of w false false 0
  obtain ⟨w1, hw1⟩ : ∃ x, x = w.alloc (.cells #[.bool false, .bool false, .int .i64 0] 30) := ⟨_, rfl⟩
  obtain ⟨g, hg⟩ : ∃ g, g = w.heap.size := ⟨_, rfl⟩
  rw [← hw1, ← hg] at hk
  rw [← hw1] at hb
  have HG := Lib.hid hg
  have HB := Lib.hid hb
  have HW := Lib.hid hw1
  have H1 := Lib.hid (is_w h w1)
  have H2 := Lib.hid (HC w1)
  have H3 := Lib.hid (pair_w n 0 w1)
  have r0 : w1.cell? ⟨g, 0, none⟩ = some (.bool false) := cell_of_row _ g 0 _ 30 _ hk
  have f0 : w1.frozen? ⟨g, 0, none⟩ = false := frozen_of_row _ g 0 _ 30 hk
  have r1 : w1.cell? ⟨g, 1, none⟩ = some (.bool false) := cell_of_row _ g 1 _ 30 _ hk
  have f1 : w1.frozen? ⟨g, 1, none⟩ = false := frozen_of_row _ g 1 _ 30 hk
  have r2 : w1.cell? ⟨g, 2, none⟩ = some (.int .i64 0) := cell_of_row _ g 2 _ 30 _ hk
  have f2 : w1.frozen? ⟨g, 2, none⟩ = false := frozen_of_row _ g 2 _ 30 hk
  have HN : Hid (ZFPost w (max (k + n) (-2147483647), l, ⟨false, false, 0⟩) (.returned (.tuple #[.complex .f64 (maxB (addB a (fOf n)) 13970166044099084288) (addB b (fOf 0)), .agg #[.bool false, .bool false, .int .i64 0]])) (stF w1 g false false 0)) := Lib.hid ⟨_, _, rfl, s1, s2, stF_below HG.out HB.out _ _ _⟩
  clear hk hb hw1 hg h s1 s2 hi HC ws w0 p1 p2 ka kb la lb n0 n1 hh
  go_enter Try.func14, Try.ntmps14
  go_upto_region 1 with fail
  rw [← HW.out, ← HG.out]
  go_wp2_with fail
  with_reducible refine (H1.out).mono ?_
  rintro e w' ⟨rfl, rfl⟩
  go_wp2_with fail
  with_reducible refine (H2.out).mono ?_
  rintro e w' ⟨rfl, rfl⟩
  go_wp2_with fail
  with_reducible refine (H3.out).mono ?_
  rintro e w' ⟨rfl, rfl⟩
  go_wp2_with fail
  refine bodyPost_ret (v := .tuple #[.complex .f64 (maxB (addB a (fOf n)) 13970166044099084288) (addB b (fOf 0)), .agg #[.bool false, .bool false, .int .i64 0]]) (by simp [results, Try.results14, go_sem, r0, r1, r2]) rfl HN.out
theorem wshi_f {a b : Nat} {k l : Int} (h : Zw a b k l) (n : Int) (w : World) (_ : -9223372036854775808 ≤ n ∧ n ≤ 9223372036854775807) : Calls Try.prog 14 #[.complex .f64 a b, .int .i64 n] w (ZFPost w (shift k l n)) := by
  unfold shift
  by_cases h1 : n < -2147483647 ∨ 2147483647 < n
  · rw [if_pos h1]
    refine shi_a h n w _ rfl ?_
    rw [cut]
    split
    · omega
    · split <;> omega
  rw [if_neg h1]
  by_cases hh : 2147483647 < k + n
  · rw [if_pos hh]; exact shi_b h n w (by omega) (by omega) hh
  rw [if_neg hh]
  exact shi_c h n w (by omega) (by omega) hh
end Go.Proofs.Ytmihmngfmlmndaa
