/- Contracts of tally.Add, Sub, Covers and Least: what each call answers; none of them touches the world. -/
import Derived.Test.YtfdffaeamblhdaaWalksB
namespace Go.Proofs.Ytfdffaeamblhdaa
open Go.RowKit Fl

theorem run_add {a b c d : Nat} {k l m n : Int} (h : Pr a b k l) (h' : Pr c d m n) (t : TypeId) (w : World) : (binOp .add t (.complex .f64 a b) (.complex .f64 c d)).run Try.prog w = .ok (.complex .f64 (addB a c) (addB b d)) w := by
  have p1 := h.a0; have p2 := h.a1; have p3 := h.b0; have p4 := h.b1
  have q1 := h'.a0; have q2 := h'.a1; have q3 := h'.b0; have q4 := h'.b1
  have e1 : floatBits .add .f64 a c = some (addB a c) := (add_whole h.wa h'.wa (by omega) (by omega)).1
  have e2 : floatBits .add .f64 b d = some (addB b d) := (add_whole h.wb h'.wb (by omega) (by omega)).1
  exact run_complex_sum w .add (Or.inl rfl) t .f64 a b c d _ _ (by unfold cSumBits; rw [e1, e2]; rfl)

theorem add_wholes {a b c d : Nat} {k l m n : Int} (h : Pr a b k l) (h' : Pr c d m n) : Whole (addB a c) (k + m) ∧ Whole (addB b d) (l + n) := by
  have p1 := h.a0; have p2 := h.a1; have p3 := h.b0; have p4 := h.b1
  have q1 := h'.a0; have q2 := h'.a1; have q3 := h'.b0; have q4 := h'.b1
  exact ⟨(add_whole h.wa h'.wa (by omega) (by omega)).2, (add_whole h.wb h'.wb (by omega) (by omega)).2⟩

theorem add_pr {a b c d : Nat} {k l m n : Int} (h : Pr a b k l) (h' : Pr c d m n) (g0 : 0 ≤ k + m) (g1 : k + m ≤ 1125899906842624) (g2 : 0 ≤ l + n) (g3 : l + n ≤ 1125899906842624) : Pr (addB a c) (addB b d) (k + m) (l + n) :=
  ⟨(add_wholes h h').1, (add_wholes h h').2, g0, g1, g2, g3⟩

theorem add_out {a b c d : Nat} {k l m n : Int} (h : Pr a b k l) (h' : Pr c d m n) (g : ¬ (0 ≤ k + m ∧ k + m ≤ 1125899906842624 ∧ 0 ≤ l + n ∧ l + n ≤ 1125899906842624)) : (partB (addB a c) && partB (addB b d)) = false := by
  rw [whole_part (add_wholes h h').1, whole_part (add_wholes h h').2]
  rw [Bool.eq_false_iff]
  intro hh
  simp at hh
  omega

set_option maxHeartbeats 400000 in
theorem add_yes {a b c d : Nat} {k l m n : Int} (w : World) (h : Pr a b k l) (h' : Pr c d m n) (g : (partB (addB a c) && partB (addB b d)) = true) :
    Calls Try.prog 11 #[.complex .f64 a b, .complex .f64 c d] w fun e w' => e = .returned (.tuple #[.complex .f64 (addB a c) (addB b d), .int .i64 0]) ∧ w = w' := by
  have hI := Lib.hid h.isB
  have hJ := Lib.hid h'.isB
  have hG := Lib.hid g
  have hc := run_add h h'
  clear h h' g
  go_enter Try.func11, Try.ntmps11
  go_wp2_with fail
  refine (is_yes a b _ hI.out).mono ?_
  rintro e w' ⟨rfl, rfl⟩
  go_wp2_with fail
  refine (is_yes c d _ hJ.out).mono ?_
  rintro e w' ⟨rfl, rfl⟩
  go_wp2_with fail
  refine (checked_yes _ _ _ hG.out).mono ?_
  rintro e w' ⟨rfl, rfl⟩
  go_wp2_with fail
  go_ret2
  exact ⟨rfl, rfl⟩

set_option maxHeartbeats 400000 in
theorem add_over {a b c d : Nat} {k l m n : Int} (w : World) (h : Pr a b k l) (h' : Pr c d m n) (g : (partB (addB a c) && partB (addB b d)) = false) :
    Calls Try.prog 11 #[.complex .f64 a b, .complex .f64 c d] w fun e w' => e = .returned (.tuple #[.complex .f64 0 0, .int .i64 1]) ∧ w = w' := by
  have hI := Lib.hid h.isB
  have hJ := Lib.hid h'.isB
  have hG := Lib.hid g
  have hc := run_add h h'
  clear h h' g
  go_enter Try.func11, Try.ntmps11
  go_wp2_with fail
  refine (is_yes a b _ hI.out).mono ?_
  rintro e w' ⟨rfl, rfl⟩
  go_wp2_with fail
  refine (is_yes c d _ hJ.out).mono ?_
  rintro e w' ⟨rfl, rfl⟩
  go_wp2_with fail
  refine (checked_no _ _ _ hG.out).mono ?_
  rintro e w' ⟨rfl, rfl⟩
  go_wp2_with fail
  go_ret2
  exact ⟨rfl, rfl⟩

set_option maxHeartbeats 400000 in
theorem add_bad (a b c d : Nat) (w : World) (h : ((partB a && partB b) && (partB c && partB d)) = false) :
    Calls Try.prog 11 #[.complex .f64 a b, .complex .f64 c d] w fun e w' => e = .returned (.tuple #[.complex .f64 0 0, .int .i64 1]) ∧ w = w' := by
  cases hi : (partB a && partB b) with
  | false =>
    have hI := Lib.hid hi
    clear h hi
    go_enter Try.func11, Try.ntmps11
    go_wp2_with fail
    refine (is_no a b _ hI.out).mono ?_
    rintro e w' ⟨rfl, rfl⟩
    go_wp2_with fail
    go_ret2
    exact ⟨rfl, rfl⟩
  | true =>
    have hI := Lib.hid hi
    rw [hi, Bool.true_and] at h
    have hJ := Lib.hid h
    clear h hi
    go_enter Try.func11, Try.ntmps11
    go_wp2_with fail
    refine (is_yes a b _ hI.out).mono ?_
    rintro e w' ⟨rfl, rfl⟩
    go_wp2_with fail
    refine (is_no c d _ hJ.out).mono ?_
    rintro e w' ⟨rfl, rfl⟩
    go_wp2_with fail
    go_ret2
    exact ⟨rfl, rfl⟩

theorem run_sub {a b c d : Nat} {k l m n : Int} (h : Pr a b k l) (h' : Pr c d m n) (t : TypeId) (w : World) : (binOp .sub t (.complex .f64 a b) (.complex .f64 c d)).run Try.prog w = .ok (.complex .f64 (subB a c) (subB b d)) w := by
  have p1 := h.a0; have p2 := h.a1; have p3 := h.b0; have p4 := h.b1
  have q1 := h'.a0; have q2 := h'.a1; have q3 := h'.b0; have q4 := h'.b1
  have e1 : floatBits .sub .f64 a c = some (subB a c) := (sub_whole h.wa h'.wa (by omega) (by omega)).1
  have e2 : floatBits .sub .f64 b d = some (subB b d) := (sub_whole h.wb h'.wb (by omega) (by omega)).1
  exact run_complex_sum w .sub (Or.inr rfl) t .f64 a b c d _ _ (by unfold cSumBits; rw [e1, e2]; rfl)

theorem sub_wholes {a b c d : Nat} {k l m n : Int} (h : Pr a b k l) (h' : Pr c d m n) : Whole (subB a c) (k - m) ∧ Whole (subB b d) (l - n) := by
  have p1 := h.a0; have p2 := h.a1; have p3 := h.b0; have p4 := h.b1
  have q1 := h'.a0; have q2 := h'.a1; have q3 := h'.b0; have q4 := h'.b1
  exact ⟨(sub_whole h.wa h'.wa (by omega) (by omega)).2, (sub_whole h.wb h'.wb (by omega) (by omega)).2⟩

theorem sub_pr {a b c d : Nat} {k l m n : Int} (h : Pr a b k l) (h' : Pr c d m n) (g0 : 0 ≤ k - m) (g1 : k - m ≤ 1125899906842624) (g2 : 0 ≤ l - n) (g3 : l - n ≤ 1125899906842624) : Pr (subB a c) (subB b d) (k - m) (l - n) :=
  ⟨(sub_wholes h h').1, (sub_wholes h h').2, g0, g1, g2, g3⟩

theorem sub_out {a b c d : Nat} {k l m n : Int} (h : Pr a b k l) (h' : Pr c d m n) (g : ¬ (0 ≤ k - m ∧ k - m ≤ 1125899906842624 ∧ 0 ≤ l - n ∧ l - n ≤ 1125899906842624)) : (partB (subB a c) && partB (subB b d)) = false := by
  rw [whole_part (sub_wholes h h').1, whole_part (sub_wholes h h').2]
  rw [Bool.eq_false_iff]
  intro hh
  simp at hh
  omega

set_option maxHeartbeats 400000 in
theorem sub_yes {a b c d : Nat} {k l m n : Int} (w : World) (h : Pr a b k l) (h' : Pr c d m n) (g : (partB (subB a c) && partB (subB b d)) = true) :
    Calls Try.prog 12 #[.complex .f64 a b, .complex .f64 c d] w fun e w' => e = .returned (.tuple #[.complex .f64 (subB a c) (subB b d), .int .i64 0]) ∧ w = w' := by
  have hI := Lib.hid h.isB
  have hJ := Lib.hid h'.isB
  have hG := Lib.hid g
  have hc := run_sub h h'
  clear h h' g
  go_enter Try.func12, Try.ntmps12
  go_wp2_with fail
  refine (is_yes a b _ hI.out).mono ?_
  rintro e w' ⟨rfl, rfl⟩
  go_wp2_with fail
  refine (is_yes c d _ hJ.out).mono ?_
  rintro e w' ⟨rfl, rfl⟩
  go_wp2_with fail
  refine (checked_yes _ _ _ hG.out).mono ?_
  rintro e w' ⟨rfl, rfl⟩
  go_wp2_with fail
  go_ret2
  exact ⟨rfl, rfl⟩

set_option maxHeartbeats 400000 in
theorem sub_over {a b c d : Nat} {k l m n : Int} (w : World) (h : Pr a b k l) (h' : Pr c d m n) (g : (partB (subB a c) && partB (subB b d)) = false) :
    Calls Try.prog 12 #[.complex .f64 a b, .complex .f64 c d] w fun e w' => e = .returned (.tuple #[.complex .f64 0 0, .int .i64 1]) ∧ w = w' := by
  have hI := Lib.hid h.isB
  have hJ := Lib.hid h'.isB
  have hG := Lib.hid g
  have hc := run_sub h h'
  clear h h' g
  go_enter Try.func12, Try.ntmps12
  go_wp2_with fail
  refine (is_yes a b _ hI.out).mono ?_
  rintro e w' ⟨rfl, rfl⟩
  go_wp2_with fail
  refine (is_yes c d _ hJ.out).mono ?_
  rintro e w' ⟨rfl, rfl⟩
  go_wp2_with fail
  refine (checked_no _ _ _ hG.out).mono ?_
  rintro e w' ⟨rfl, rfl⟩
  go_wp2_with fail
  go_ret2
  exact ⟨rfl, rfl⟩

set_option maxHeartbeats 400000 in
theorem sub_bad (a b c d : Nat) (w : World) (h : ((partB a && partB b) && (partB c && partB d)) = false) :
    Calls Try.prog 12 #[.complex .f64 a b, .complex .f64 c d] w fun e w' => e = .returned (.tuple #[.complex .f64 0 0, .int .i64 1]) ∧ w = w' := by
  cases hi : (partB a && partB b) with
  | false =>
    have hI := Lib.hid hi
    clear h hi
    go_enter Try.func12, Try.ntmps12
    go_wp2_with fail
    refine (is_no a b _ hI.out).mono ?_
    rintro e w' ⟨rfl, rfl⟩
    go_wp2_with fail
    go_ret2
    exact ⟨rfl, rfl⟩
  | true =>
    have hI := Lib.hid hi
    rw [hi, Bool.true_and] at h
    have hJ := Lib.hid h
    clear h hi
    go_enter Try.func12, Try.ntmps12
    go_wp2_with fail
    refine (is_yes a b _ hI.out).mono ?_
    rintro e w' ⟨rfl, rfl⟩
    go_wp2_with fail
    refine (is_no c d _ hJ.out).mono ?_
    rintro e w' ⟨rfl, rfl⟩
    go_wp2_with fail
    go_ret2
    exact ⟨rfl, rfl⟩

set_option maxHeartbeats 400000 in
theorem covers_bad (a b c d : Nat) (w : World) (h : ((partB a && partB b) && (partB c && partB d)) = false) :
    Calls Try.prog 10 #[.complex .f64 a b, .complex .f64 c d] w fun e w' => e = .returned (.bool false) ∧ w = w' := by
  cases hi : (partB a && partB b) with
  | false =>
    have hI := Lib.hid hi
    clear h hi
    go_enter Try.func10, Try.ntmps10
    go_wp2_with fail
    refine (is_no a b _ hI.out).mono ?_
    rintro e w' ⟨rfl, rfl⟩
    go_wp2_with fail
    go_ret
    exact ⟨rfl, rfl⟩
  | true =>
    have hI := Lib.hid hi
    rw [hi, Bool.true_and] at h
    have hJ := Lib.hid h
    clear h hi
    go_enter Try.func10, Try.ntmps10
    go_wp2_with fail
    refine (is_yes a b _ hI.out).mono ?_
    rintro e w' ⟨rfl, rfl⟩
    go_wp2_with fail
    refine (is_no c d _ hJ.out).mono ?_
    rintro e w' ⟨rfl, rfl⟩
    go_wp2_with fail
    go_ret
    exact ⟨rfl, rfl⟩

set_option maxHeartbeats 400000 in
theorem covers_any {a b c d : Nat} {k l m n : Int} (w : World) (h : Pr a b k l) (h' : Pr c d m n) :
    Calls Try.prog 10 #[.complex .f64 a b, .complex .f64 c d] w fun e w' => e = .returned (.bool (decide (m ≤ k) && decide (n ≤ l))) ∧ w = w' := by
  have hI := Lib.hid h.isB
  have hJ := Lib.hid h'.isB
  have k1 := leq_sp h'.wa h.wa
  have k2 := leq_sp h'.wb h.wb
  clear h h'
  cases e1 : decide (m ≤ k) with
  | false =>
    rw [e1] at k1
    clear e1 k2
    go_enter Try.func10, Try.ntmps10
    go_wp2_with fail
    refine (is_yes a b _ hI.out).mono ?_
    rintro e w' ⟨rfl, rfl⟩
    go_wp2_with fail
    refine (is_yes c d _ hJ.out).mono ?_
    rintro e w' ⟨rfl, rfl⟩
    go_wp2_with fail
    go_ret
    exact ⟨rfl, rfl⟩
  | true =>
    rw [e1] at k1
    generalize decide (n ≤ l) = v at *
    clear e1
    go_enter Try.func10, Try.ntmps10
    go_wp2_with fail
    refine (is_yes a b _ hI.out).mono ?_
    rintro e w' ⟨rfl, rfl⟩
    go_wp2_with fail
    refine (is_yes c d _ hJ.out).mono ?_
    rintro e w' ⟨rfl, rfl⟩
    go_wp2_with fail
    go_ret
    exact ⟨rfl, rfl⟩

theorem run_min {x y : Nat} {k l : Int} (h : Whole x k) (h' : Whole y l) (ts : Array TypeId) (t : TypeId) (w : World) : (Builtin.min_ ts t #[.float .f64 x, .float .f64 y]).run Try.prog w = .ok (.float .f64 (minB x y)) w := by
  have ho : FloatKind.f64.format.order x y = some (compare k l) := order_whole h h'
  have ho' : Ieee.double.order x y = some (compare k l) := ho
  unfold minB
  rw [ho']
  simp only [Builtin.min_, List.foldlM_cons, List.foldlM_nil, Builtin.min2, ho]
  cases compare k l <;> rfl

set_option maxHeartbeats 400000 in
theorem least_yes {a b c d : Nat} {k l m n : Int} (w : World) (h : Pr a b k l) (h' : Pr c d m n) :
    Calls Try.prog 13 #[.complex .f64 a b, .complex .f64 c d] w fun e w' => e = .returned (.complex .f64 (minB a c) (minB b d)) ∧ w = w' := by
  have hI := Lib.hid h.isB
  have hJ := Lib.hid h'.isB
  have k1 := run_min h.wa h'.wa
  have k2 := run_min h.wb h'.wb
  clear h h'
  go_enter Try.func13, Try.ntmps13
  go_wp2_with fail
  refine (is_yes a b _ hI.out).mono ?_
  rintro e w' ⟨rfl, rfl⟩
  go_wp2_with fail
  refine (is_yes c d _ hJ.out).mono ?_
  rintro e w' ⟨rfl, rfl⟩
  go_wp2_with fail
  go_ret
  exact ⟨rfl, rfl⟩

set_option maxHeartbeats 400000 in
theorem least_bad (a b c d : Nat) (w : World) (h : ((partB a && partB b) && (partB c && partB d)) = false) :
    Calls Try.prog 13 #[.complex .f64 a b, .complex .f64 c d] w fun e w' => e = .returned (.complex .f64 0 0) ∧ w = w' := by
  cases hi : (partB a && partB b) with
  | false =>
    have hI := Lib.hid hi
    clear h hi
    go_enter Try.func13, Try.ntmps13
    go_wp2_with fail
    refine (is_no a b _ hI.out).mono ?_
    rintro e w' ⟨rfl, rfl⟩
    go_wp2_with fail
    go_ret
    exact ⟨rfl, rfl⟩
  | true =>
    have hI := Lib.hid hi
    rw [hi, Bool.true_and] at h
    have hJ := Lib.hid h
    clear h hi
    go_enter Try.func13, Try.ntmps13
    go_wp2_with fail
    refine (is_yes a b _ hI.out).mono ?_
    rintro e w' ⟨rfl, rfl⟩
    go_wp2_with fail
    refine (is_no c d _ hJ.out).mono ?_
    rintro e w' ⟨rfl, rfl⟩
    go_wp2_with fail
    go_ret
    exact ⟨rfl, rfl⟩

theorem fpr (u d : Int) (h0 : 0 ≤ u) (h1 : u ≤ 1125899906842624) (h2 : 0 ≤ d) (h3 : d ≤ 1125899906842624) : Pr (fOf u) (fOf d) u d :=
  ⟨whole_fOf u (by omega) (by omega), whole_fOf d (by omega) (by omega), h0, h1, h2, h3⟩

set_option maxHeartbeats 400000 in
theorem first_any (w : World) : Calls Try.prog 5 #[] w fun e w' => e = .returned (.bool true) ∧ w = w' := by
  have p := Lib.hid (fpr 3 4 (by omega) (by omega) (by omega) (by omega))
  have k1 : (FloatKind.f64.format.order (fOf 3) 4613937818241073152 == some Ordering.eq) = true := by decide +kernel
  have k2 : (FloatKind.f64.format.order (fOf 4) 4616189618054758400 == some Ordering.eq) = true := by decide +kernel
  go_enter Try.func5, Try.ntmps5
  go_wp2_with fail
  refine (pair_yes 3 4 _ (by omega) (by omega) (by omega) (by omega)).mono ?_
  rintro e w' ⟨rfl, rfl⟩
  go_wp2_with fail
  refine (up_yes _ p.out).mono ?_
  rintro e w' ⟨rfl, rfl⟩
  go_wp2_with fail
  refine (down_yes _ p.out).mono ?_
  rintro e w' ⟨rfl, rfl⟩
  go_wp2_with fail
  go_ret
  exact ⟨rfl, rfl⟩

end Go.Proofs.Ytfdffaeamblhdaa
