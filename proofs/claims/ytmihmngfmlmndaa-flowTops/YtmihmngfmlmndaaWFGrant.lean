/- Grant over the landed code. -/
import Derived.Test.YtmihmngfmlmndaaWFSmall
import Derived.Test.YtmihmngfmlmndaaWKeep
namespace Go.Proofs.Ytmihmngfmlmndaa
open Go.RowKit Fl Fw

def stF (W : World) (g : Nat) (x y : Bool) (n : Int) : World := ((W.setCell ⟨g, 0, none⟩ (.bool x)).setCell ⟨g, 1, none⟩ (.bool y)).setCell ⟨g, 2, none⟩ (.int .i64 n)
theorem stF_below {w W : World} {g : Nat} (hg : g = w.heap.size) (hb : Below w.heap.size w W) (x y : Bool) (n : Int) : Below w.heap.size w (stF W g x y n) :=
  ((hb.setCell (p := ⟨g, 0, none⟩) (show w.heap.size ≤ g by omega) _).setCell (p := ⟨g, 1, none⟩) (show w.heap.size ≤ g by omega) _).setCell (p := ⟨g, 2, none⟩) (show w.heap.size ≤ g by omega) _
theorem isg_yes {n : Int} (h1 : 0 ≤ n) (h2 : n ≤ 2147483647) (w : World) : Calls Try.prog 18 #[.int .i64 n] w fun e w' => e = .returned (.bool true) ∧ w' = w := by
  go_enter Try.func18, Try.ntmps18
  go_wp2_with fail
  go_ret
  exact ⟨rfl, rfl⟩
theorem isg_low {n : Int} (h1 : n < 0) (w : World) : Calls Try.prog 18 #[.int .i64 n] w fun e w' => e = .returned (.bool false) ∧ w' = w := by
  have k1 : ¬ 0 ≤ n := by omega
  clear h1
  go_enter Try.func18, Try.ntmps18
  go_wp2_with fail
  go_ret
  exact ⟨rfl, rfl⟩
theorem isg_high {n : Int} (h1 : 2147483647 < n) (w : World) : Calls Try.prog 18 #[.int .i64 n] w fun e w' => e = .returned (.bool false) ∧ w' = w := by
  have k1 : 0 ≤ n := by omega
  have k2 : ¬ n ≤ 2147483647 := by omega
  clear h1
  go_enter Try.func18, Try.ntmps18
  go_wp2_with fail
  go_ret
  exact ⟨rfl, rfl⟩
theorem isg_no {n : Int} (h : n < 0 ∨ 2147483647 < n) (w : World) : Calls Try.prog 18 #[.int .i64 n] w fun e w' => e = .returned (.bool false) ∧ w' = w := by
  rcases h with h | h
  · exact isg_low h w
  · exact isg_high h w
set_option maxRecDepth 100000 in
set_option maxHeartbeats 2000000 in
theorem gra_a {a b : Nat} {k l : Int} (h : Zw a b k l) (s c : Int) (w : World) (hs : s < 0 ∨ 2147483647 < s) : Calls Try.prog 13 #[.complex .f64 a b, .int .i64 s, .int .i64 c] w (ZFPost w (0, 0, ⟨true, true, 1⟩)) := by
  have s1 := whole_zero
  have s2 := whole_zero
  obtain ⟨hk, hb⟩ := kf_of w false false 0
  obtain ⟨w1, hw1⟩ : ∃ x, x = w.alloc (.cells #[.bool false, .bool false, .int .i64 0] 30) := ⟨_, rfl⟩
  obtain ⟨g, hg⟩ : ∃ g, g = w.heap.size := ⟨_, rfl⟩
  rw [← hw1, ← hg] at hk
  rw [← hw1] at hb
  have HG := Lib.hid hg
  have HB := Lib.hid hb
  have HW := Lib.hid hw1
  have H1 := Lib.hid (is_w h w1)
  have H2 := Lib.hid (isg_no hs w1)
  have r0 : w1.cell? ⟨g, 0, none⟩ = some (.bool false) := cell_of_row _ g 0 _ 30 _ hk
  have f0 : w1.frozen? ⟨g, 0, none⟩ = false := frozen_of_row _ g 0 _ 30 hk
  have r1 : w1.cell? ⟨g, 1, none⟩ = some (.bool false) := cell_of_row _ g 1 _ 30 _ hk
  have f1 : w1.frozen? ⟨g, 1, none⟩ = false := frozen_of_row _ g 1 _ 30 hk
  have r2 : w1.cell? ⟨g, 2, none⟩ = some (.int .i64 0) := cell_of_row _ g 2 _ 30 _ hk
  have f2 : w1.frozen? ⟨g, 2, none⟩ = false := frozen_of_row _ g 2 _ 30 hk
  have HN : Hid (ZFPost w (0, 0, ⟨true, true, 1⟩) (.returned (.tuple #[.complex .f64 0 0, .agg #[.bool true, .bool true, .int .i64 1]])) (stF w1 g true true 1)) := Lib.hid ⟨_, _, rfl, s1, s2, stF_below HG.out HB.out _ _ _⟩
  clear hk hb hw1 hg h s1 s2 hs
  go_enter Try.func13, Try.ntmps13
  go_upto_region 1 with fail
  rw [← HW.out, ← HG.out]
  go_wp2_with fail
  with_reducible refine (H1.out).mono ?_
  rintro e w' ⟨rfl, rfl⟩
  go_wp2_with fail
  with_reducible refine (H2.out).mono ?_
  rintro e w' ⟨rfl, rfl⟩
  go_wp2_with fail
  refine bodyPost_ret (v := .tuple #[.complex .f64 0 0, .agg #[.bool true, .bool true, .int .i64 1]]) (by simp [results, Try.results13, go_sem, r0, r1, r2]) rfl HN.out
set_option maxRecDepth 100000 in
set_option maxHeartbeats 2000000 in
theorem gra_b {a b : Nat} {k l : Int} (h : Zw a b k l) (s c : Int) (w : World) (s0 : 0 ≤ s) (s1' : s ≤ 2147483647) (hc : c < 0 ∨ 2147483647 < c) : Calls Try.prog 13 #[.complex .f64 a b, .int .i64 s, .int .i64 c] w (ZFPost w (0, 0, ⟨true, true, 1⟩)) := by
  have s1 := whole_zero
  have s2 := whole_zero
  obtain ⟨hk, hb⟩ := kf_of w false false 0
  obtain ⟨w1, hw1⟩ : ∃ x, x = w.alloc (.cells #[.bool false, .bool false, .int .i64 0] 30) := ⟨_, rfl⟩
  obtain ⟨g, hg⟩ : ∃ g, g = w.heap.size := ⟨_, rfl⟩
  rw [← hw1, ← hg] at hk
  rw [← hw1] at hb
  have HG := Lib.hid hg
  have HB := Lib.hid hb
  have HW := Lib.hid hw1
  have H1 := Lib.hid (is_w h w1)
  have H2 := Lib.hid (isg_yes s0 s1' w1)
  have H3 := Lib.hid (isg_no hc w1)
  have r0 : w1.cell? ⟨g, 0, none⟩ = some (.bool false) := cell_of_row _ g 0 _ 30 _ hk
  have f0 : w1.frozen? ⟨g, 0, none⟩ = false := frozen_of_row _ g 0 _ 30 hk
  have r1 : w1.cell? ⟨g, 1, none⟩ = some (.bool false) := cell_of_row _ g 1 _ 30 _ hk
  have f1 : w1.frozen? ⟨g, 1, none⟩ = false := frozen_of_row _ g 1 _ 30 hk
  have r2 : w1.cell? ⟨g, 2, none⟩ = some (.int .i64 0) := cell_of_row _ g 2 _ 30 _ hk
  have f2 : w1.frozen? ⟨g, 2, none⟩ = false := frozen_of_row _ g 2 _ 30 hk
  have HN : Hid (ZFPost w (0, 0, ⟨true, true, 1⟩) (.returned (.tuple #[.complex .f64 0 0, .agg #[.bool true, .bool true, .int .i64 1]])) (stF w1 g true true 1)) := Lib.hid ⟨_, _, rfl, s1, s2, stF_below HG.out HB.out _ _ _⟩
  clear hk hb hw1 hg h s1 s2 s0 s1' hc
  go_enter Try.func13, Try.ntmps13
  go_upto_region 1 with fail
  rw [← HW.out, ← HG.out]
  go_wp2_with fail
  with_reducible refine (H1.out).mono ?_
  rintro e w' ⟨rfl, rfl⟩
  go_wp2_with fail
  with_reducible refine (H2.out).mono ?_
  rintro e w' ⟨rfl, rfl⟩
  go_wp2_with fail
  with_reducible refine (H3.out).mono ?_
  rintro e w' ⟨rfl, rfl⟩
  go_wp2_with fail
  refine bodyPost_ret (v := .tuple #[.complex .f64 0 0, .agg #[.bool true, .bool true, .int .i64 1]]) (by simp [results, Try.results13, go_sem, r0, r1, r2]) rfl HN.out
set_option maxRecDepth 100000 in
set_option maxHeartbeats 2000000 in
theorem gra_e {a b : Nat} {k l : Int} (h : Zw a b k l) (s c : Int) (w : World) (s0 : 0 ≤ s) (s1' : s ≤ 2147483647) (c0 : 0 ≤ c) (c1 : c ≤ 2147483647) (hh : 2147483647 < l + c) : Calls Try.prog 13 #[.complex .f64 a b, .int .i64 s, .int .i64 c] w (ZFPost w (0, 0, ⟨true, true, 3⟩)) := by
  obtain ⟨_, _, ⟨ka, kb⟩, ⟨la, lb⟩⟩ := id h
  have ws := whole_of (show in_ s by unfold in_; omega)
  have wc := whole_of (show in_ c by unfold in_; omega)
  have hadd := run_addW h.a' h.b' ws wc (by omega) (by omega) 23
  have p1 := (add_whole h.a' ws (by omega) (by omega)).2
  have p2 := (add_whole h.b' wc (by omega) (by omega)).2
  have o1 := fgt p1 whole_top
  have o2 := fgt p2 whole_top
  rw [decide_eq_true hh] at o2
  have s1 := whole_zero
  have s2 := whole_zero
  obtain ⟨hk, hb⟩ := kf_of w false false 0
  obtain ⟨w1, hw1⟩ : ∃ x, x = w.alloc (.cells #[.bool false, .bool false, .int .i64 0] 30) := ⟨_, rfl⟩
  obtain ⟨g, hg⟩ : ∃ g, g = w.heap.size := ⟨_, rfl⟩
  rw [← hw1, ← hg] at hk
  rw [← hw1] at hb
  have HG := Lib.hid hg
  have HB := Lib.hid hb
  have HW := Lib.hid hw1
  have H1 := Lib.hid (is_w h w1)
  have H2 := Lib.hid (isg_yes s0 s1' w1)
  have H3 := Lib.hid (isg_yes c0 c1 w1)
  have H4 := Lib.hid (pair_w s c w1)
  have r0 : w1.cell? ⟨g, 0, none⟩ = some (.bool false) := cell_of_row _ g 0 _ 30 _ hk
  have f0 : w1.frozen? ⟨g, 0, none⟩ = false := frozen_of_row _ g 0 _ 30 hk
  have r1 : w1.cell? ⟨g, 1, none⟩ = some (.bool false) := cell_of_row _ g 1 _ 30 _ hk
  have f1 : w1.frozen? ⟨g, 1, none⟩ = false := frozen_of_row _ g 1 _ 30 hk
  have r2 : w1.cell? ⟨g, 2, none⟩ = some (.int .i64 0) := cell_of_row _ g 2 _ 30 _ hk
  have f2 : w1.frozen? ⟨g, 2, none⟩ = false := frozen_of_row _ g 2 _ 30 hk
  have HN : Hid (ZFPost w (0, 0, ⟨true, true, 3⟩) (.returned (.tuple #[.complex .f64 0 0, .agg #[.bool true, .bool true, .int .i64 3]])) (stF w1 g true true 3)) := Lib.hid ⟨_, _, rfl, s1, s2, stF_below HG.out HB.out _ _ _⟩
  clear hk hb hw1 hg h s1 s2 ws wc p1 p2 ka kb la lb s0 s1' c0 c1 hh
  go_enter Try.func13, Try.ntmps13
  go_upto_region 1 with fail
  rw [← HW.out, ← HG.out]
  go_wp2_with fail
  with_reducible refine (H1.out).mono ?_
  rintro e w' ⟨rfl, rfl⟩
  go_wp2_with fail
  with_reducible refine (H2.out).mono ?_
  rintro e w' ⟨rfl, rfl⟩
  go_wp2_with fail
  with_reducible refine (H3.out).mono ?_
  rintro e w' ⟨rfl, rfl⟩
  go_wp2_with fail
  with_reducible refine (H4.out).mono ?_
  rintro e w' ⟨rfl, rfl⟩
  go_wp2_with fail
  refine bodyPost_ret (v := .tuple #[.complex .f64 0 0, .agg #[.bool true, .bool true, .int .i64 3]]) (by simp [results, Try.results13, go_sem, r0, r1, r2]) rfl HN.out
set_option maxRecDepth 100000 in
set_option maxHeartbeats 2000000 in
theorem gra_f {a b : Nat} {k l : Int} (h : Zw a b k l) (s c : Int) (w : World) (s0 : 0 ≤ s) (s1' : s ≤ 2147483647) (c0 : 0 ≤ c) (c1 : c ≤ 2147483647) (hh : ¬ 2147483647 < l + c) (hl : 2147483647 < k + s) : Calls Try.prog 13 #[.complex .f64 a b, .int .i64 s, .int .i64 c] w (ZFPost w (0, 0, ⟨true, false, 3⟩)) := by
  obtain ⟨_, _, ⟨ka, kb⟩, ⟨la, lb⟩⟩ := id h
  have ws := whole_of (show in_ s by unfold in_; omega)
  have wc := whole_of (show in_ c by unfold in_; omega)
  have hadd := run_addW h.a' h.b' ws wc (by omega) (by omega) 23
  have p1 := (add_whole h.a' ws (by omega) (by omega)).2
  have p2 := (add_whole h.b' wc (by omega) (by omega)).2
  have o1 := fgt p1 whole_top
  have o2 := fgt p2 whole_top
  rw [decide_eq_false hh] at o2
  rw [decide_eq_true hl] at o1
  have s1 := whole_zero
  have s2 := whole_zero
  obtain ⟨hk, hb⟩ := kf_of w false false 0
  obtain ⟨w1, hw1⟩ : ∃ x, x = w.alloc (.cells #[.bool false, .bool false, .int .i64 0] 30) := ⟨_, rfl⟩
  obtain ⟨g, hg⟩ : ∃ g, g = w.heap.size := ⟨_, rfl⟩
  rw [← hw1, ← hg] at hk
  rw [← hw1] at hb
  have HG := Lib.hid hg
  have HB := Lib.hid hb
  have HW := Lib.hid hw1
  have H1 := Lib.hid (is_w h w1)
  have H2 := Lib.hid (isg_yes s0 s1' w1)
  have H3 := Lib.hid (isg_yes c0 c1 w1)
  have H4 := Lib.hid (pair_w s c w1)
  have r0 : w1.cell? ⟨g, 0, none⟩ = some (.bool false) := cell_of_row _ g 0 _ 30 _ hk
  have f0 : w1.frozen? ⟨g, 0, none⟩ = false := frozen_of_row _ g 0 _ 30 hk
  have r1 : w1.cell? ⟨g, 1, none⟩ = some (.bool false) := cell_of_row _ g 1 _ 30 _ hk
  have f1 : w1.frozen? ⟨g, 1, none⟩ = false := frozen_of_row _ g 1 _ 30 hk
  have r2 : w1.cell? ⟨g, 2, none⟩ = some (.int .i64 0) := cell_of_row _ g 2 _ 30 _ hk
  have f2 : w1.frozen? ⟨g, 2, none⟩ = false := frozen_of_row _ g 2 _ 30 hk
  have HN : Hid (ZFPost w (0, 0, ⟨true, false, 3⟩) (.returned (.tuple #[.complex .f64 0 0, .agg #[.bool true, .bool false, .int .i64 3]])) (stF w1 g true false 3)) := Lib.hid ⟨_, _, rfl, s1, s2, stF_below HG.out HB.out _ _ _⟩
  clear hk hb hw1 hg h s1 s2 ws wc p1 p2 ka kb la lb s0 s1' c0 c1 hh hl
  go_enter Try.func13, Try.ntmps13
  go_upto_region 1 with fail
  rw [← HW.out, ← HG.out]
  go_wp2_with fail
  with_reducible refine (H1.out).mono ?_
  rintro e w' ⟨rfl, rfl⟩
  go_wp2_with fail
  with_reducible refine (H2.out).mono ?_
  rintro e w' ⟨rfl, rfl⟩
  go_wp2_with fail
  with_reducible refine (H3.out).mono ?_
  rintro e w' ⟨rfl, rfl⟩
  go_wp2_with fail
  with_reducible refine (H4.out).mono ?_
  rintro e w' ⟨rfl, rfl⟩
  go_wp2_with fail
  refine bodyPost_ret (v := .tuple #[.complex .f64 0 0, .agg #[.bool true, .bool false, .int .i64 3]]) (by simp [results, Try.results13, go_sem, r0, r1, r2]) rfl HN.out
set_option maxRecDepth 100000 in
set_option maxHeartbeats 2000000 in
theorem gra_g {a b : Nat} {k l : Int} (h : Zw a b k l) (s c : Int) (w : World) (s0 : 0 ≤ s) (s1' : s ≤ 2147483647) (c0 : 0 ≤ c) (c1 : c ≤ 2147483647) (hh : ¬ 2147483647 < l + c) (hl : ¬ 2147483647 < k + s) : Calls Try.prog 13 #[.complex .f64 a b, .int .i64 s, .int .i64 c] w (ZFPost w (k + s, l + c, ⟨false, false, 0⟩)) := by
  obtain ⟨_, _, ⟨ka, kb⟩, ⟨la, lb⟩⟩ := id h
  have ws := whole_of (show in_ s by unfold in_; omega)
  have wc := whole_of (show in_ c by unfold in_; omega)
  have hadd := run_addW h.a' h.b' ws wc (by omega) (by omega) 23
  have p1 := (add_whole h.a' ws (by omega) (by omega)).2
  have p2 := (add_whole h.b' wc (by omega) (by omega)).2
  have o1 := fgt p1 whole_top
  have o2 := fgt p2 whole_top
  rw [decide_eq_false hh] at o2
  rw [decide_eq_false hl] at o1
  have s1 := p1
  have s2 := p2
  obtain ⟨hk, hb⟩ := kf_of w false false 0
  obtain ⟨w1, hw1⟩ : ∃ x, x = w.alloc (.cells #[.bool false, .bool false, .int .i64 0] 30) := ⟨_, rfl⟩
  obtain ⟨g, hg⟩ : ∃ g, g = w.heap.size := ⟨_, rfl⟩
  rw [← hw1, ← hg] at hk
  rw [← hw1] at hb
  have HG := Lib.hid hg
  have HB := Lib.hid hb
  have HW := Lib.hid hw1
  have H1 := Lib.hid (is_w h w1)
  have H2 := Lib.hid (isg_yes s0 s1' w1)
  have H3 := Lib.hid (isg_yes c0 c1 w1)
  have H4 := Lib.hid (pair_w s c w1)
  have r0 : w1.cell? ⟨g, 0, none⟩ = some (.bool false) := cell_of_row _ g 0 _ 30 _ hk
  have f0 : w1.frozen? ⟨g, 0, none⟩ = false := frozen_of_row _ g 0 _ 30 hk
  have r1 : w1.cell? ⟨g, 1, none⟩ = some (.bool false) := cell_of_row _ g 1 _ 30 _ hk
  have f1 : w1.frozen? ⟨g, 1, none⟩ = false := frozen_of_row _ g 1 _ 30 hk
  have r2 : w1.cell? ⟨g, 2, none⟩ = some (.int .i64 0) := cell_of_row _ g 2 _ 30 _ hk
  have f2 : w1.frozen? ⟨g, 2, none⟩ = false := frozen_of_row _ g 2 _ 30 hk
  have HN : Hid (ZFPost w (k + s, l + c, ⟨false, false, 0⟩) (.returned (.tuple #[.complex .f64 (addB a (fOf s)) (addB b (fOf c)), .agg #[.bool false, .bool false, .int .i64 0]])) (stF w1 g false false 0)) := Lib.hid ⟨_, _, rfl, s1, s2, stF_below HG.out HB.out _ _ _⟩
  clear hk hb hw1 hg h s1 s2 ws wc p1 p2 ka kb la lb s0 s1' c0 c1 hh hl
  go_enter Try.func13, Try.ntmps13
  go_upto_region 1 with fail
  rw [← HW.out, ← HG.out]
  go_wp2_with fail
  with_reducible refine (H1.out).mono ?_
  rintro e w' ⟨rfl, rfl⟩
  go_wp2_with fail
  with_reducible refine (H2.out).mono ?_
  rintro e w' ⟨rfl, rfl⟩
  go_wp2_with fail
  with_reducible refine (H3.out).mono ?_
  rintro e w' ⟨rfl, rfl⟩
  go_wp2_with fail
  with_reducible refine (H4.out).mono ?_
  rintro e w' ⟨rfl, rfl⟩
  go_wp2_with fail
  refine bodyPost_ret (v := .tuple #[.complex .f64 (addB a (fOf s)) (addB b (fOf c)), .agg #[.bool false, .bool false, .int .i64 0]]) (by simp [results, Try.results13, go_sem, r0, r1, r2]) rfl HN.out
theorem wgra_f {a b : Nat} {k l : Int} (h : Zw a b k l) (s c : Int) (w : World) (_ : -9223372036854775808 ≤ s ∧ s ≤ 9223372036854775807) (_ : -9223372036854775808 ≤ c ∧ c ≤ 9223372036854775807) : Calls Try.prog 13 #[.complex .f64 a b, .int .i64 s, .int .i64 c] w (ZFPost w (grant k l s c)) := by
  unfold grant
  by_cases h1 : s < 0 ∨ 2147483647 < s
  · rw [if_pos (by omega)]; exact gra_a h s c w h1
  by_cases h2 : c < 0 ∨ 2147483647 < c
  · rw [if_pos (by omega)]; exact gra_b h s c w (by omega) (by omega) h2
  rw [if_neg (by omega)]
  by_cases hh : 2147483647 < l + c
  · rw [if_pos hh]; exact gra_e h s c w (by omega) (by omega) (by omega) (by omega) hh
  rw [if_neg hh]
  by_cases hl : 2147483647 < k + s
  · rw [if_pos hl]; exact gra_f h s c w (by omega) (by omega) (by omega) (by omega) hh hl
  rw [if_neg hl]
  exact gra_g h s c w (by omega) (by omega) (by omega) (by omega) hh hl
end Go.Proofs.Ytmihmngfmlmndaa
