/- Contracts of tally.Pair, Up, Down, checked, Add, Sub, Covers, Least, and of the statements' own first: what each call answers; none of them touches the world. -/
import Derived.Test.YtfdffaeamblhdaaWalks
namespace Go.Proofs.Ytfdffaeamblhdaa
open Go.RowKit Fl

/-- Both words stand for counts. -/
structure Pr (a b : Nat) (k l : Int) : Prop where
  wa : Whole a k
  wb : Whole b l
  a0 : 0 ≤ k
  a1 : k ≤ 1125899906842624
  b0 : 0 ≤ l
  b1 : l ≤ 1125899906842624

theorem Pr.isB {a b : Nat} {k l : Int} (h : Pr a b k l) : (partB a && partB b) = true := by
  rw [whole_part h.wa, whole_part h.wb]
  have := h.a0; have := h.a1; have := h.b0; have := h.b1
  simp; omega

set_option maxHeartbeats 400000 in
theorem pair_yes (u d : Int) (w : World) (h0 : 0 ≤ u) (h1 : u ≤ 1125899906842624) (h2 : 0 ≤ d) (h3 : d ≤ 1125899906842624) :
    Calls Try.prog 6 #[.int .i64 u, .int .i64 d] w fun e w' => e = .returned (.tuple #[.complex .f64 (fOf u) (fOf d), .int .i64 0]) ∧ w = w' := by
  have c1 : decide (0 ≤ u ∧ u ≤ 1125899906842624) = true := by simp [h0, h1]
  have c2 : decide (0 ≤ d ∧ d ≤ 1125899906842624) = true := by simp [h2, h3]
  have C1 := Lib.hid c1
  have C2 := Lib.hid c2
  clear c1 c2 h0 h1 h2 h3
  go_enter Try.func6, Try.ntmps6
  go_wp2_with fail
  refine (isCount_any u _).mono ?_
  rw [C1.out]
  rintro e w' ⟨rfl, rfl⟩
  go_wp2_with fail
  refine (isCount_any d _).mono ?_
  rw [C2.out]
  rintro e w' ⟨rfl, rfl⟩
  go_wp2_with fail
  go_ret2
  exact ⟨rfl, rfl⟩

set_option maxHeartbeats 400000 in
theorem pair_no (u d : Int) (w : World) (h : ¬ (0 ≤ u ∧ u ≤ 1125899906842624 ∧ 0 ≤ d ∧ d ≤ 1125899906842624)) :
    Calls Try.prog 6 #[.int .i64 u, .int .i64 d] w fun e w' => e = .returned (.tuple #[.complex .f64 0 0, .int .i64 1]) ∧ w = w' := by
  by_cases hu : 0 ≤ u ∧ u ≤ 1125899906842624
  · have c1 : decide (0 ≤ u ∧ u ≤ 1125899906842624) = true := by simp [hu]
    have c2 : decide (0 ≤ d ∧ d ≤ 1125899906842624) = false := by simp; omega
    have C1 := Lib.hid c1
    have C2 := Lib.hid c2
    clear c1 c2 h hu
    go_enter Try.func6, Try.ntmps6
    go_wp2_with fail
    refine (isCount_any u _).mono ?_
    rw [C1.out]
    rintro e w' ⟨rfl, rfl⟩
    go_wp2_with fail
    refine (isCount_any d _).mono ?_
    rw [C2.out]
    rintro e w' ⟨rfl, rfl⟩
    go_wp2_with fail
    go_ret2
    exact ⟨rfl, rfl⟩
  · have c1 : decide (0 ≤ u ∧ u ≤ 1125899906842624) = false := by simp; omega
    have C1 := Lib.hid c1
    clear c1 h hu
    go_enter Try.func6, Try.ntmps6
    go_wp2_with fail
    refine (isCount_any u _).mono ?_
    rw [C1.out]
    rintro e w' ⟨rfl, rfl⟩
    go_wp2_with fail
    go_ret2
    exact ⟨rfl, rfl⟩

theorem run_toInt {x : Nat} {k : Int} (h : Whole x k) (h0 : 0 ≤ k) (h1 : k ≤ 1125899906842624) (w : World) : (convert 33 3 (.float .f64 x)).run Try.prog w = .ok (.int .i64 k) w :=
  run_convert_float_int w 33 3 .f64 .i64 x k (by rw [Try.underlying33]; rfl) Try.underlying3 (toIntVal_whole h (by omega) (by omega))

set_option maxHeartbeats 400000 in
theorem up_yes {a b : Nat} {k l : Int} (w : World) (h : Pr a b k l) :
    Calls Try.prog 7 #[.complex .f64 a b] w fun e w' => e = .returned (.int .i64 k) ∧ w = w' := by
  have hI := Lib.hid h.isB
  have hc := run_toInt h.wa h.a0 h.a1
  clear h
  go_enter Try.func7, Try.ntmps7
  go_wp2_with fail
  refine (is_yes a b _ hI.out).mono ?_
  rintro e w' ⟨rfl, rfl⟩
  go_wp2_with fail
  go_ret
  exact ⟨rfl, rfl⟩

set_option maxHeartbeats 400000 in
theorem up_no (a b : Nat) (w : World) (h : (partB a && partB b) = false) :
    Calls Try.prog 7 #[.complex .f64 a b] w fun e w' => e = .returned (.int .i64 0) ∧ w = w' := by
  have hI := Lib.hid h
  clear h
  go_enter Try.func7, Try.ntmps7
  go_wp2_with fail
  refine (is_no a b _ hI.out).mono ?_
  rintro e w' ⟨rfl, rfl⟩
  go_wp2_with fail
  go_ret
  exact ⟨rfl, rfl⟩

set_option maxHeartbeats 400000 in
theorem down_yes {a b : Nat} {k l : Int} (w : World) (h : Pr a b k l) :
    Calls Try.prog 8 #[.complex .f64 a b] w fun e w' => e = .returned (.int .i64 l) ∧ w = w' := by
  have hI := Lib.hid h.isB
  have hc := run_toInt h.wb h.b0 h.b1
  clear h
  go_enter Try.func8, Try.ntmps8
  go_wp2_with fail
  refine (is_yes a b _ hI.out).mono ?_
  rintro e w' ⟨rfl, rfl⟩
  go_wp2_with fail
  go_ret
  exact ⟨rfl, rfl⟩

set_option maxHeartbeats 400000 in
theorem down_no (a b : Nat) (w : World) (h : (partB a && partB b) = false) :
    Calls Try.prog 8 #[.complex .f64 a b] w fun e w' => e = .returned (.int .i64 0) ∧ w = w' := by
  have hI := Lib.hid h
  clear h
  go_enter Try.func8, Try.ntmps8
  go_wp2_with fail
  refine (is_no a b _ hI.out).mono ?_
  rintro e w' ⟨rfl, rfl⟩
  go_wp2_with fail
  go_ret
  exact ⟨rfl, rfl⟩

set_option maxHeartbeats 400000 in
theorem checked_yes (a b : Nat) (w : World) (h : (partB a && partB b) = true) :
    Calls Try.prog 16 #[.complex .f64 a b] w fun e w' => e = .returned (.tuple #[.complex .f64 a b, .int .i64 0]) ∧ w = w' := by
  have hI := Lib.hid h
  clear h
  go_enter Try.func16, Try.ntmps16
  go_wp2_with fail
  refine (is_yes a b _ hI.out).mono ?_
  rintro e w' ⟨rfl, rfl⟩
  go_wp2_with fail
  go_ret2
  exact ⟨rfl, rfl⟩

set_option maxHeartbeats 400000 in
theorem checked_no (a b : Nat) (w : World) (h : (partB a && partB b) = false) :
    Calls Try.prog 16 #[.complex .f64 a b] w fun e w' => e = .returned (.tuple #[.complex .f64 0 0, .int .i64 1]) ∧ w = w' := by
  have hI := Lib.hid h
  clear h
  go_enter Try.func16, Try.ntmps16
  go_wp2_with fail
  refine (is_no a b _ hI.out).mono ?_
  rintro e w' ⟨rfl, rfl⟩
  go_wp2_with fail
  go_ret2
  exact ⟨rfl, rfl⟩

end Go.Proofs.Ytfdffaeamblhdaa
