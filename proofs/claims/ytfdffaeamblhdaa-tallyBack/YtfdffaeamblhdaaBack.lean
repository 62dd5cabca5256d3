/-
  For every up, down pair of whole numbers a, b, c, d (64 bits): wlvlaw1.TallyBack answers true: a pair's parts are what it was made of, and Sub takes back what Add gave.
  No condition.
-/
import Derived.Test.YtfdffaeamblhdaaWalksC
import Derived.ProofKit
import Derived.OpenShut
namespace Go.Proofs.Ytfdffaeamblhdaa.tallyBack
open Go.ChangeShapes Go.WideShapes Go.ChangeAt Go.RowKit Fl

theorem own : ownKnob Try.prog.godebug = none := by kernel_rfl

set_option maxRecDepth 100000 in
set_option maxHeartbeats 1000000 in
theorem walk_bad1 (a b c d : Int) (w : World) (h0 : 0 ≤ a) (h1 : a ≤ 1125899906842624) (h2 : 0 ≤ b) (h3 : b ≤ 1125899906842624) (h : ¬ (0 ≤ c ∧ c ≤ 1125899906842624 ∧ 0 ≤ d ∧ d ≤ 1125899906842624)) :
    Calls Try.prog 3 #[.int .i64 a, .int .i64 b, .int .i64 c, .int .i64 d] w fun e w' => e = .returned (.bool true) ∧ w = w' := by
  have H := Lib.hid h
  clear h
  go_enter Try.func3, Try.ntmps3
  go_wp2_with fail
  refine (first_any _).mono ?_
  rintro e w' ⟨rfl, rfl⟩
  go_wp2_with fail
  refine (pair_yes a b _ h0 h1 h2 h3).mono ?_
  rintro e w' ⟨rfl, rfl⟩
  go_wp2_with fail
  refine (pair_no c d _ H.out).mono ?_
  rintro e w' ⟨rfl, rfl⟩
  go_wp2_with fail
  refine (first_any _).mono ?_
  rintro e w' ⟨rfl, rfl⟩
  go_wp2_with fail
  go_ret
  exact ⟨by simp, rfl⟩

set_option maxRecDepth 100000 in
set_option maxHeartbeats 1000000 in
theorem walk_bad2 (a b c d : Int) (w : World) (h : ¬ (0 ≤ a ∧ a ≤ 1125899906842624 ∧ 0 ≤ b ∧ b ≤ 1125899906842624)) :
    Calls Try.prog 3 #[.int .i64 a, .int .i64 b, .int .i64 c, .int .i64 d] w fun e w' => e = .returned (.bool true) ∧ w = w' := by
  have H := Lib.hid h
  clear h
  by_cases hc : 0 ≤ c ∧ c ≤ 1125899906842624 ∧ 0 ≤ d ∧ d ≤ 1125899906842624
  · have HC := Lib.hid hc
    clear hc
    go_enter Try.func3, Try.ntmps3
    go_wp2_with fail
    refine (first_any _).mono ?_
    rintro e w' ⟨rfl, rfl⟩
    go_wp2_with fail
    refine (pair_no a b _ H.out).mono ?_
    rintro e w' ⟨rfl, rfl⟩
    go_wp2_with fail
    refine (pair_yes c d _ HC.out.1 HC.out.2.1 HC.out.2.2.1 HC.out.2.2.2).mono ?_
    rintro e w' ⟨rfl, rfl⟩
    go_wp2_with fail
    refine (first_any _).mono ?_
    rintro e w' ⟨rfl, rfl⟩
    go_wp2_with fail
    all_goals
      go_ret
      have hh := H.out
      exact ⟨by simp <;> omega, rfl⟩
  · have HC := Lib.hid hc
    clear hc
    go_enter Try.func3, Try.ntmps3
    go_wp2_with fail
    refine (first_any _).mono ?_
    rintro e w' ⟨rfl, rfl⟩
    go_wp2_with fail
    refine (pair_no a b _ H.out).mono ?_
    rintro e w' ⟨rfl, rfl⟩
    go_wp2_with fail
    refine (pair_no c d _ HC.out).mono ?_
    rintro e w' ⟨rfl, rfl⟩
    go_wp2_with fail
    refine (first_any _).mono ?_
    rintro e w' ⟨rfl, rfl⟩
    go_wp2_with fail
    all_goals
      go_ret
      have hh := H.out
      exact ⟨by simp <;> omega, rfl⟩


set_option maxRecDepth 100000 in
set_option maxHeartbeats 1000000 in
theorem walk_over (a b c d : Int) (w : World) (h0 : 0 ≤ a) (h1 : a ≤ 1125899906842624) (h2 : 0 ≤ b) (h3 : b ≤ 1125899906842624) (h4 : 0 ≤ c) (h5 : c ≤ 1125899906842624) (h6 : 0 ≤ d) (h7 : d ≤ 1125899906842624)
    (h : ¬ (a + c ≤ 1125899906842624 ∧ b + d ≤ 1125899906842624)) :
    Calls Try.prog 3 #[.int .i64 a, .int .i64 b, .int .i64 c, .int .i64 d] w fun e w' => e = .returned (.bool true) ∧ w = w' := by
  have P := Lib.hid (fpr a b h0 h1 h2 h3)
  have Q := Lib.hid (fpr c d h4 h5 h6 h7)
  have A := Lib.hid (add_out P.out Q.out (by omega))
  have k1 : ((a : Int) != a) = false := by simp
  have k2 : ((b : Int) != b) = false := by simp
  have H := Lib.hid h
  clear h
  go_enter Try.func3, Try.ntmps3
  go_wp2_with fail
  refine (first_any _).mono ?_
  rintro e w' ⟨rfl, rfl⟩
  go_wp2_with fail
  refine (pair_yes a b _ h0 h1 h2 h3).mono ?_
  rintro e w' ⟨rfl, rfl⟩
  go_wp2_with fail
  refine (pair_yes c d _ h4 h5 h6 h7).mono ?_
  rintro e w' ⟨rfl, rfl⟩
  go_wp2_with fail
  refine (up_yes _ P.out).mono ?_
  rintro e w' ⟨rfl, rfl⟩
  go_wp2_with fail
  refine (down_yes _ P.out).mono ?_
  rintro e w' ⟨rfl, rfl⟩
  go_wp2_with fail
  refine (is_yes _ _ _ P.out.isB).mono ?_
  rintro e w' ⟨rfl, rfl⟩
  go_wp2_with fail
  refine (covers_any _ P.out P.out).mono ?_
  rw [show (decide (a ≤ a) && decide (b ≤ b)) = true from by simp]
  rintro e w' ⟨rfl, rfl⟩
  go_wp2_with fail
  refine (add_over _ P.out Q.out A.out).mono ?_
  rintro e w' ⟨rfl, rfl⟩
  go_wp2_with fail
  refine (first_any _).mono ?_
  rintro e w' ⟨rfl, rfl⟩
  go_wp2_with fail
  all_goals
    go_ret
    have hh := H.out
    exact ⟨by simp <;> omega, rfl⟩

set_option maxRecDepth 100000 in
set_option maxHeartbeats 2000000 in
theorem walk_goodA (a b c d : Int) (w : World) (h0 : 0 ≤ a) (h1 : a ≤ 1125899906842624) (h2 : 0 ≤ b) (h3 : b ≤ 1125899906842624) (h4 : 0 ≤ c) (h5 : c ≤ 1125899906842624) (h6 : 0 ≤ d) (h7 : d ≤ 1125899906842624)
    (h8 : a + c ≤ 1125899906842624) (h9 : b + d ≤ 1125899906842624) (hac : a ≤ c) (hbd : b ≤ d) :
    Calls Try.prog 3 #[.int .i64 a, .int .i64 b, .int .i64 c, .int .i64 d] w fun e w' => e = .returned (.bool true) ∧ w = w' := by
  have P := Lib.hid (fpr a b h0 h1 h2 h3)
  have Q := Lib.hid (fpr c d h4 h5 h6 h7)
  have S := Lib.hid (add_pr P.out Q.out (by omega) h8 (by omega) h9)
  have Z := Lib.hid (sub_pr S.out Q.out (by omega) (by omega) (by omega) (by omega))
  have M : Hid (Pr (minB (fOf a) (fOf c)) (minB (fOf b) (fOf d)) a b) := by
    have m1 := min_whole P.out.wa Q.out.wa
    have m2 := min_whole P.out.wb Q.out.wb
    rw [show min a c = a from by omega] at m1
    rw [show min b d = b from by omega] at m2
    exact Lib.hid ⟨m1, m2, by omega, by omega, by omega, by omega⟩
  have k1 : ((a : Int) != a) = false := by simp
  have k2 : ((b : Int) != b) = false := by simp
  have z1 : (FloatKind.f64.format.order (subB (addB (fOf a) (fOf c)) (fOf c)) (fOf a) == some Ordering.eq) = true := by
    rw [eq_sp, whole_eq Z.out.wa P.out.wa]; exact decide_eq_true (by omega)
  have z2 : (FloatKind.f64.format.order (subB (addB (fOf b) (fOf d)) (fOf d)) (fOf b) == some Ordering.eq) = true := by
    rw [eq_sp, whole_eq Z.out.wb P.out.wb]; exact decide_eq_true (by omega)
  go_enter Try.func3, Try.ntmps3
  go_wp2_with fail
  refine (first_any _).mono ?_
  rintro e w' ⟨rfl, rfl⟩
  go_wp2_with fail
  refine (pair_yes a b _ h0 h1 h2 h3).mono ?_
  rintro e w' ⟨rfl, rfl⟩
  go_wp2_with fail
  refine (pair_yes c d _ h4 h5 h6 h7).mono ?_
  rintro e w' ⟨rfl, rfl⟩
  go_wp2_with fail
  refine (up_yes _ P.out).mono ?_
  rintro e w' ⟨rfl, rfl⟩
  go_wp2_with fail
  refine (down_yes _ P.out).mono ?_
  rintro e w' ⟨rfl, rfl⟩
  go_wp2_with fail
  refine (is_yes _ _ _ P.out.isB).mono ?_
  rintro e w' ⟨rfl, rfl⟩
  go_wp2_with fail
  refine (covers_any _ P.out P.out).mono ?_
  rw [show (decide (a ≤ a) && decide (b ≤ b)) = true from by simp]
  rintro e w' ⟨rfl, rfl⟩
  go_wp2_with fail
  refine (add_yes _ P.out Q.out S.out.isB).mono ?_
  rintro e w' ⟨rfl, rfl⟩
  go_wp2_with fail
  refine (sub_yes _ S.out Q.out Z.out.isB).mono ?_
  rintro e w' ⟨rfl, rfl⟩
  go_wp2_with fail
  refine (least_yes _ P.out Q.out).mono ?_
  rintro e w' ⟨rfl, rfl⟩
  go_wp2_with fail
  refine (first_any _).mono ?_
  rintro e w' ⟨rfl, rfl⟩
  go_wp2_with fail
  refine (up_yes _ S.out).mono ?_
  rintro e w' ⟨rfl, rfl⟩
  go_wp2_with fail
  refine (down_yes _ S.out).mono ?_
  rintro e w' ⟨rfl, rfl⟩
  go_wp2_with fail
  refine (covers_any _ S.out P.out).mono ?_
  rw [show (decide (a ≤ a + c) && decide (b ≤ b + d)) = true from by simp; omega]
  rintro e w' ⟨rfl, rfl⟩
  go_wp2_with fail
  refine (up_yes _ M.out).mono ?_
  rintro e w' ⟨rfl, rfl⟩
  go_wp2_with fail
  refine (down_yes _ M.out).mono ?_
  rintro e w' ⟨rfl, rfl⟩
  go_wp2_with fail
  refine (covers_any _ P.out Q.out).mono ?_
  rintro e w' ⟨rfl, rfl⟩
  go_wp2_with fail
  all_goals
    go_ret
    exact ⟨by simp <;> omega, rfl⟩

set_option maxRecDepth 100000 in
set_option maxHeartbeats 2000000 in
theorem walk_goodB (a b c d : Int) (w : World) (h0 : 0 ≤ a) (h1 : a ≤ 1125899906842624) (h2 : 0 ≤ b) (h3 : b ≤ 1125899906842624) (h4 : 0 ≤ c) (h5 : c ≤ 1125899906842624) (h6 : 0 ≤ d) (h7 : d ≤ 1125899906842624)
    (h8 : a + c ≤ 1125899906842624) (h9 : b + d ≤ 1125899906842624) (hac : a ≤ c) (hbd : d < b) :
    Calls Try.prog 3 #[.int .i64 a, .int .i64 b, .int .i64 c, .int .i64 d] w fun e w' => e = .returned (.bool true) ∧ w = w' := by
  have P := Lib.hid (fpr a b h0 h1 h2 h3)
  have Q := Lib.hid (fpr c d h4 h5 h6 h7)
  have S := Lib.hid (add_pr P.out Q.out (by omega) h8 (by omega) h9)
  have Z := Lib.hid (sub_pr S.out Q.out (by omega) (by omega) (by omega) (by omega))
  have M : Hid (Pr (minB (fOf a) (fOf c)) (minB (fOf b) (fOf d)) a d) := by
    have m1 := min_whole P.out.wa Q.out.wa
    have m2 := min_whole P.out.wb Q.out.wb
    rw [show min a c = a from by omega] at m1
    rw [show min b d = d from by omega] at m2
    exact Lib.hid ⟨m1, m2, by omega, by omega, by omega, by omega⟩
  have k1 : ((a : Int) != a) = false := by simp
  have k2 : ((b : Int) != b) = false := by simp
  have z1 : (FloatKind.f64.format.order (subB (addB (fOf a) (fOf c)) (fOf c)) (fOf a) == some Ordering.eq) = true := by
    rw [eq_sp, whole_eq Z.out.wa P.out.wa]; exact decide_eq_true (by omega)
  have z2 : (FloatKind.f64.format.order (subB (addB (fOf b) (fOf d)) (fOf d)) (fOf b) == some Ordering.eq) = true := by
    rw [eq_sp, whole_eq Z.out.wb P.out.wb]; exact decide_eq_true (by omega)
  go_enter Try.func3, Try.ntmps3
  go_wp2_with fail
  refine (first_any _).mono ?_
  rintro e w' ⟨rfl, rfl⟩
  go_wp2_with fail
  refine (pair_yes a b _ h0 h1 h2 h3).mono ?_
  rintro e w' ⟨rfl, rfl⟩
  go_wp2_with fail
  refine (pair_yes c d _ h4 h5 h6 h7).mono ?_
  rintro e w' ⟨rfl, rfl⟩
  go_wp2_with fail
  refine (up_yes _ P.out).mono ?_
  rintro e w' ⟨rfl, rfl⟩
  go_wp2_with fail
  refine (down_yes _ P.out).mono ?_
  rintro e w' ⟨rfl, rfl⟩
  go_wp2_with fail
  refine (is_yes _ _ _ P.out.isB).mono ?_
  rintro e w' ⟨rfl, rfl⟩
  go_wp2_with fail
  refine (covers_any _ P.out P.out).mono ?_
  rw [show (decide (a ≤ a) && decide (b ≤ b)) = true from by simp]
  rintro e w' ⟨rfl, rfl⟩
  go_wp2_with fail
  refine (add_yes _ P.out Q.out S.out.isB).mono ?_
  rintro e w' ⟨rfl, rfl⟩
  go_wp2_with fail
  refine (sub_yes _ S.out Q.out Z.out.isB).mono ?_
  rintro e w' ⟨rfl, rfl⟩
  go_wp2_with fail
  refine (least_yes _ P.out Q.out).mono ?_
  rintro e w' ⟨rfl, rfl⟩
  go_wp2_with fail
  refine (first_any _).mono ?_
  rintro e w' ⟨rfl, rfl⟩
  go_wp2_with fail
  refine (up_yes _ S.out).mono ?_
  rintro e w' ⟨rfl, rfl⟩
  go_wp2_with fail
  refine (down_yes _ S.out).mono ?_
  rintro e w' ⟨rfl, rfl⟩
  go_wp2_with fail
  refine (covers_any _ S.out P.out).mono ?_
  rw [show (decide (a ≤ a + c) && decide (b ≤ b + d)) = true from by simp; omega]
  rintro e w' ⟨rfl, rfl⟩
  go_wp2_with fail
  refine (up_yes _ M.out).mono ?_
  rintro e w' ⟨rfl, rfl⟩
  go_wp2_with fail
  refine (down_yes _ M.out).mono ?_
  rintro e w' ⟨rfl, rfl⟩
  go_wp2_with fail
  refine (covers_any _ P.out Q.out).mono ?_
  rintro e w' ⟨rfl, rfl⟩
  go_wp2_with fail
  all_goals
    go_ret
    exact ⟨by simp <;> omega, rfl⟩

set_option maxRecDepth 100000 in
set_option maxHeartbeats 2000000 in
theorem walk_goodC (a b c d : Int) (w : World) (h0 : 0 ≤ a) (h1 : a ≤ 1125899906842624) (h2 : 0 ≤ b) (h3 : b ≤ 1125899906842624) (h4 : 0 ≤ c) (h5 : c ≤ 1125899906842624) (h6 : 0 ≤ d) (h7 : d ≤ 1125899906842624)
    (h8 : a + c ≤ 1125899906842624) (h9 : b + d ≤ 1125899906842624) (hac : c < a) (hbd : b ≤ d) :
    Calls Try.prog 3 #[.int .i64 a, .int .i64 b, .int .i64 c, .int .i64 d] w fun e w' => e = .returned (.bool true) ∧ w = w' := by
  have P := Lib.hid (fpr a b h0 h1 h2 h3)
  have Q := Lib.hid (fpr c d h4 h5 h6 h7)
  have S := Lib.hid (add_pr P.out Q.out (by omega) h8 (by omega) h9)
  have Z := Lib.hid (sub_pr S.out Q.out (by omega) (by omega) (by omega) (by omega))
  have M : Hid (Pr (minB (fOf a) (fOf c)) (minB (fOf b) (fOf d)) c b) := by
    have m1 := min_whole P.out.wa Q.out.wa
    have m2 := min_whole P.out.wb Q.out.wb
    rw [show min a c = c from by omega] at m1
    rw [show min b d = b from by omega] at m2
    exact Lib.hid ⟨m1, m2, by omega, by omega, by omega, by omega⟩
  have k1 : ((a : Int) != a) = false := by simp
  have k2 : ((b : Int) != b) = false := by simp
  have z1 : (FloatKind.f64.format.order (subB (addB (fOf a) (fOf c)) (fOf c)) (fOf a) == some Ordering.eq) = true := by
    rw [eq_sp, whole_eq Z.out.wa P.out.wa]; exact decide_eq_true (by omega)
  have z2 : (FloatKind.f64.format.order (subB (addB (fOf b) (fOf d)) (fOf d)) (fOf b) == some Ordering.eq) = true := by
    rw [eq_sp, whole_eq Z.out.wb P.out.wb]; exact decide_eq_true (by omega)
  go_enter Try.func3, Try.ntmps3
  go_wp2_with fail
  refine (first_any _).mono ?_
  rintro e w' ⟨rfl, rfl⟩
  go_wp2_with fail
  refine (pair_yes a b _ h0 h1 h2 h3).mono ?_
  rintro e w' ⟨rfl, rfl⟩
  go_wp2_with fail
  refine (pair_yes c d _ h4 h5 h6 h7).mono ?_
  rintro e w' ⟨rfl, rfl⟩
  go_wp2_with fail
  refine (up_yes _ P.out).mono ?_
  rintro e w' ⟨rfl, rfl⟩
  go_wp2_with fail
  refine (down_yes _ P.out).mono ?_
  rintro e w' ⟨rfl, rfl⟩
  go_wp2_with fail
  refine (is_yes _ _ _ P.out.isB).mono ?_
  rintro e w' ⟨rfl, rfl⟩
  go_wp2_with fail
  refine (covers_any _ P.out P.out).mono ?_
  rw [show (decide (a ≤ a) && decide (b ≤ b)) = true from by simp]
  rintro e w' ⟨rfl, rfl⟩
  go_wp2_with fail
  refine (add_yes _ P.out Q.out S.out.isB).mono ?_
  rintro e w' ⟨rfl, rfl⟩
  go_wp2_with fail
  refine (sub_yes _ S.out Q.out Z.out.isB).mono ?_
  rintro e w' ⟨rfl, rfl⟩
  go_wp2_with fail
  refine (least_yes _ P.out Q.out).mono ?_
  rintro e w' ⟨rfl, rfl⟩
  go_wp2_with fail
  refine (first_any _).mono ?_
  rintro e w' ⟨rfl, rfl⟩
  go_wp2_with fail
  refine (up_yes _ S.out).mono ?_
  rintro e w' ⟨rfl, rfl⟩
  go_wp2_with fail
  refine (down_yes _ S.out).mono ?_
  rintro e w' ⟨rfl, rfl⟩
  go_wp2_with fail
  refine (covers_any _ S.out P.out).mono ?_
  rw [show (decide (a ≤ a + c) && decide (b ≤ b + d)) = true from by simp; omega]
  rintro e w' ⟨rfl, rfl⟩
  go_wp2_with fail
  refine (up_yes _ M.out).mono ?_
  rintro e w' ⟨rfl, rfl⟩
  go_wp2_with fail
  refine (down_yes _ M.out).mono ?_
  rintro e w' ⟨rfl, rfl⟩
  go_wp2_with fail
  refine (covers_any _ P.out Q.out).mono ?_
  rintro e w' ⟨rfl, rfl⟩
  go_wp2_with fail
  all_goals
    go_ret
    exact ⟨by simp <;> omega, rfl⟩

set_option maxRecDepth 100000 in
set_option maxHeartbeats 2000000 in
theorem walk_goodD (a b c d : Int) (w : World) (h0 : 0 ≤ a) (h1 : a ≤ 1125899906842624) (h2 : 0 ≤ b) (h3 : b ≤ 1125899906842624) (h4 : 0 ≤ c) (h5 : c ≤ 1125899906842624) (h6 : 0 ≤ d) (h7 : d ≤ 1125899906842624)
    (h8 : a + c ≤ 1125899906842624) (h9 : b + d ≤ 1125899906842624) (hac : c < a) (hbd : d < b) :
    Calls Try.prog 3 #[.int .i64 a, .int .i64 b, .int .i64 c, .int .i64 d] w fun e w' => e = .returned (.bool true) ∧ w = w' := by
  have P := Lib.hid (fpr a b h0 h1 h2 h3)
  have Q := Lib.hid (fpr c d h4 h5 h6 h7)
  have S := Lib.hid (add_pr P.out Q.out (by omega) h8 (by omega) h9)
  have Z := Lib.hid (sub_pr S.out Q.out (by omega) (by omega) (by omega) (by omega))
  have M : Hid (Pr (minB (fOf a) (fOf c)) (minB (fOf b) (fOf d)) c d) := by
    have m1 := min_whole P.out.wa Q.out.wa
    have m2 := min_whole P.out.wb Q.out.wb
    rw [show min a c = c from by omega] at m1
    rw [show min b d = d from by omega] at m2
    exact Lib.hid ⟨m1, m2, by omega, by omega, by omega, by omega⟩
  have k1 : ((a : Int) != a) = false := by simp
  have k2 : ((b : Int) != b) = false := by simp
  have z1 : (FloatKind.f64.format.order (subB (addB (fOf a) (fOf c)) (fOf c)) (fOf a) == some Ordering.eq) = true := by
    rw [eq_sp, whole_eq Z.out.wa P.out.wa]; exact decide_eq_true (by omega)
  have z2 : (FloatKind.f64.format.order (subB (addB (fOf b) (fOf d)) (fOf d)) (fOf b) == some Ordering.eq) = true := by
    rw [eq_sp, whole_eq Z.out.wb P.out.wb]; exact decide_eq_true (by omega)
  go_enter Try.func3, Try.ntmps3
  go_wp2_with fail
  refine (first_any _).mono ?_
  rintro e w' ⟨rfl, rfl⟩
  go_wp2_with fail
  refine (pair_yes a b _ h0 h1 h2 h3).mono ?_
  rintro e w' ⟨rfl, rfl⟩
  go_wp2_with fail
  refine (pair_yes c d _ h4 h5 h6 h7).mono ?_
  rintro e w' ⟨rfl, rfl⟩
  go_wp2_with fail
  refine (up_yes _ P.out).mono ?_
  rintro e w' ⟨rfl, rfl⟩
  go_wp2_with fail
  refine (down_yes _ P.out).mono ?_
  rintro e w' ⟨rfl, rfl⟩
  go_wp2_with fail
  refine (is_yes _ _ _ P.out.isB).mono ?_
  rintro e w' ⟨rfl, rfl⟩
  go_wp2_with fail
  refine (covers_any _ P.out P.out).mono ?_
  rw [show (decide (a ≤ a) && decide (b ≤ b)) = true from by simp]
  rintro e w' ⟨rfl, rfl⟩
  go_wp2_with fail
  refine (add_yes _ P.out Q.out S.out.isB).mono ?_
  rintro e w' ⟨rfl, rfl⟩
  go_wp2_with fail
  refine (sub_yes _ S.out Q.out Z.out.isB).mono ?_
  rintro e w' ⟨rfl, rfl⟩
  go_wp2_with fail
  refine (least_yes _ P.out Q.out).mono ?_
  rintro e w' ⟨rfl, rfl⟩
  go_wp2_with fail
  refine (first_any _).mono ?_
  rintro e w' ⟨rfl, rfl⟩
  go_wp2_with fail
  refine (up_yes _ S.out).mono ?_
  rintro e w' ⟨rfl, rfl⟩
  go_wp2_with fail
  refine (down_yes _ S.out).mono ?_
  rintro e w' ⟨rfl, rfl⟩
  go_wp2_with fail
  refine (covers_any _ S.out P.out).mono ?_
  rw [show (decide (a ≤ a + c) && decide (b ≤ b + d)) = true from by simp; omega]
  rintro e w' ⟨rfl, rfl⟩
  go_wp2_with fail
  refine (up_yes _ M.out).mono ?_
  rintro e w' ⟨rfl, rfl⟩
  go_wp2_with fail
  refine (down_yes _ M.out).mono ?_
  rintro e w' ⟨rfl, rfl⟩
  go_wp2_with fail
  refine (covers_any _ P.out Q.out).mono ?_
  rintro e w' ⟨rfl, rfl⟩
  go_wp2_with fail
  all_goals
    go_ret
    exact ⟨by simp <;> omega, rfl⟩

theorem walk (a b c d : Int) (w : World) :
    Calls Try.prog 3 #[.int .i64 a, .int .i64 b, .int .i64 c, .int .i64 d] w fun e w' => e = .returned (.bool true) ∧ Grown w w' := by
  have key : Calls Try.prog 3 #[.int .i64 a, .int .i64 b, .int .i64 c, .int .i64 d] w fun e w' => e = .returned (.bool true) ∧ w = w' := by
    by_cases h : 0 ≤ a ∧ a ≤ 1125899906842624 ∧ 0 ≤ b ∧ b ≤ 1125899906842624
    · obtain ⟨h0, h1, h2, h3⟩ := h
      by_cases h' : 0 ≤ c ∧ c ≤ 1125899906842624 ∧ 0 ≤ d ∧ d ≤ 1125899906842624
      · obtain ⟨h4, h5, h6, h7⟩ := h'
        by_cases hs : a + c ≤ 1125899906842624 ∧ b + d ≤ 1125899906842624
        · by_cases hac : a ≤ c
          · by_cases hbd : b ≤ d
            · exact walk_goodA a b c d w h0 h1 h2 h3 h4 h5 h6 h7 hs.1 hs.2 hac hbd
            · exact walk_goodB a b c d w h0 h1 h2 h3 h4 h5 h6 h7 hs.1 hs.2 hac (by omega)
          · by_cases hbd : b ≤ d
            · exact walk_goodC a b c d w h0 h1 h2 h3 h4 h5 h6 h7 hs.1 hs.2 (by omega) hbd
            · exact walk_goodD a b c d w h0 h1 h2 h3 h4 h5 h6 h7 hs.1 hs.2 (by omega) (by omega)
        · exact walk_over a b c d w h0 h1 h2 h3 h4 h5 h6 h7 hs
      · exact walk_bad1 a b c d w h0 h1 h2 h3 h'
    · exact walk_bad2 a b c d w h
  exact key.mono fun e w' ⟨he, hw⟩ => ⟨he, hw ▸ Grown.refl _⟩

set_option maxRecDepth 100000 in
theorem lifted (os : Os) (started : os.Started) (H : Type) (enc : TypeId × Value → H) :
    ReturnsInHanded {} Try.checked os 3 .any (Rows.tallyBackSpec.pre6 enc Try.prog Try.f3 Rows.tallyBackRow.domain false) (Rows.tallyBackSpec.post enc Try.prog Try.f3 false true false false) := by
  refine returnsInHanded_of_change (C := Try.checked) own started (by kernel_rfl) Try.func3
    (ChangeSpec.witness6 (enc := enc) (C := Try.checked) false ⟨#[], #[.int .i64 0, .int .i64 0, .int .i64 0, .int .i64 0], []⟩ 8 (by kernel_rfl) (by kernel_rfl) (by kernel_rfl) (by kernel_rfl)) ?_
  intro W base args ds gs before hval0 hW hcnd _
  have hval : ∀ (j : Nat) t v, Try.f3.params[j]? = some t → args[j]? = some v → Value.okWide Try.prog W .any base t v := hval0
  have hW' := hW
  obtain ⟨p, q, hA0, hV, rfl, hfz, hnd⟩ := hW
  have hA : DataW.TrodAll enc Try.prog W 0 (fun _ => true) true Try.f3.params.toList args.toList ds p := hA0
  rw [Try.params3] at hA hval
  obtain ⟨v0, vs0, d0, ds0, p0, q0, hargs, rfl, rfl, h0, r0⟩ := trodAll_cons hA
  obtain ⟨v1, vs1, d1, ds1, p1, q1, rfl, rfl, rfl, h1, r1⟩ := trodAll_cons r0
  obtain ⟨v2, vs2, d2, ds2, p2, q2, rfl, rfl, rfl, h2, r2⟩ := trodAll_cons r1
  obtain ⟨v3, vs3, d3, ds3, p3, q3, rfl, rfl, rfl, h3, r3⟩ := trodAll_cons r2
  obtain ⟨rfl, rfl, rfl⟩ := trodAll_nil r3
  obtain rfl : args = #[v0, v1, v2, v3] := by cases args; simp_all
  obtain ⟨rfl, rfl⟩ := trodVars_none hV
  obtain ⟨a0, rfl, rfl, rfl, w0⟩ := open_int Try.underlying3 (hval 0 3 v0 rfl rfl) h0
  obtain ⟨a1, rfl, rfl, rfl, w1⟩ := open_int Try.underlying3 (hval 1 3 v1 rfl rfl) h1
  obtain ⟨a2, rfl, rfl, rfl, w2⟩ := open_int Try.underlying3 (hval 2 3 v2 rfl rfl) h2
  obtain ⟨a3, rfl, rfl, rfl, w3⟩ := open_int Try.underlying3 (hval 3 3 v3 rfl rfl) h3
  clear hA0 hval0
  simp only [List.append_nil] at hW'
  refine (walk a0 a1 a2 a3 W).mono fun e W' ⟨he, hg⟩ => ?_
  subst he
  exact ⟨_, rfl, post_of_same (pa := []) (pv := []) hW' (fun _ _ _ => (trodAll_cons_mk (shut_bool Try.underlying4 _) trodAll_mk0)) (fun sp _ => (trodAll_cons_mk (shut_int Try.underlying3 w0) (trodAll_cons_mk (shut_int Try.underlying3 w1) (trodAll_cons_mk (shut_int Try.underlying3 w2) (trodAll_cons_mk (shut_int Try.underlying3 w3) trodAll_mk0))))) (fun _ _ => rfl) rfl
    (hg.frame _) hg.2.1 (ok_one (by kernel_rfl) rfl (okWide_bool_mk Try.underlying4 _))⟩

theorem over : Rows.tallyBackRow.holds Try.pinned (OpenSpec.ofChange Rows.tallyBackSpec) :=
  OpenClaim.holds_of_wide 3 Try.f3 rfl rfl rfl rfl rfl rfl rfl ⟨rfl, rfl, rfl, rfl, rfl⟩ rfl rfl rfl rfl rfl (by kernel_rfl) Try.func3 (by kernel_rfl)
    (of_decide_eq_true (by kernel_rfl)) (by unfold Func.isWrapper; first | (rw [if_pos (by decide +kernel)]; kernel_rfl) | (rw [if_neg (by decide +kernel)]; exact ⟨rfl, rfl⟩))
    (fun os started H enc _ => lifted os started H enc)

end Go.Proofs.Ytfdffaeamblhdaa.tallyBack
namespace Go.Proofs.Ytfdffaeamblhdaa
theorem tallyBack_holds : Rows.TallyBackSaid := tallyBack.over
#print axioms tallyBack_holds
end Go.Proofs.Ytfdffaeamblhdaa
