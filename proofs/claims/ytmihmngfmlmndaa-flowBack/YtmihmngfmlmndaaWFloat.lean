/- Doubles that stand for whole numbers of either sign, as a walk meets them: compared, cut, turned into ints, added. -/
import Derived.Test.YtmihmngfmlmndaaWPost
import Derived.WalkSpells
import Derived.WalkLawsBesides
import Derived.Laws.Externs
namespace Go.Proofs.Ytmihmngfmlmndaa
open Go.RowKit Fl Fw Ieee

theorem whole_top : Whole 4746794007244308480 2147483647 := by
  have h := whole_fOf 2147483647 (by omega) (by omega)
  rwa [show fOf 2147483647 = 4746794007244308480 by kernel_rfl] at h
theorem whole_low : Whole 13970166044099084288 (-2147483647) := by
  have h := whole_fOf (-2147483647) (by omega) (by omega)
  rwa [show fOf (-2147483647) = 13970166044099084288 by kernel_rfl] at h
section
variable {x y : Nat} {k l : Int} (h : Whole x k) (h' : Whole y l)
include h h'
theorem ford : FloatKind.f64.format.order x y = some (compare k l) := order_whole h h'
theorem fge : (FloatKind.f64.format.order x y == some Ordering.gt || FloatKind.f64.format.order x y == some Ordering.eq) = decide (l ≤ k) := by rw [ford h h', compare_gt_or_eq]
theorem fle : (FloatKind.f64.format.order x y == some Ordering.lt || FloatKind.f64.format.order x y == some Ordering.eq) = decide (k ≤ l) := by rw [ford h h', compare_lt_or_eq]
theorem fgt : (FloatKind.f64.format.order x y == some Ordering.gt) = decide (l < k) := by
  rw [ford h h']
  simp only [compare, compareOfLessAndEq]
  by_cases h1 : k < l
  · rw [if_pos h1, decide_eq_false (by omega)]; rfl
  · rw [if_neg h1]
    by_cases h2 : k = l
    · rw [if_pos h2, decide_eq_false (by omega)]; rfl
    · rw [if_neg h2, decide_eq_true (by omega)]; rfl
theorem flt : (FloatKind.f64.format.order x y == some Ordering.lt) = decide (k < l) := by
  rw [ford h h']
  simp only [compare, compareOfLessAndEq]
  by_cases h1 : k < l
  · rw [if_pos h1, decide_eq_true h1]; rfl
  · rw [if_neg h1, decide_eq_false h1]
    by_cases h2 : k = l
    · rw [if_pos h2]; rfl
    · rw [if_neg h2]; rfl
end
theorem whole_trunc {x : Nat} {k : Int} (h : Whole x k) (h1 : -9007199254740992 < k) (h2 : k < 9007199254740992) : Whole (truncB x) k := by
  obtain ⟨s, m, e, hr, hv, he⟩ := id h
  have hp : (0 : Int) < 2 ^ e := two_pow_posI e
  have hm : (if s = true then -((m / 2 ^ e : Nat) : Int) else ((m / 2 ^ e : Nat) : Int)) = k := by
    cases s with
    | false =>
      simp only [signed, Nat.shiftLeft_zero] at hv
      simp at hv ⊢
      rw [hv]; exact Int.mul_ediv_cancel _ (by omega)
    | true =>
      simp only [signed, Nat.shiftLeft_zero] at hv
      simp at hv ⊢
      have : (m : Int) = (-k) * 2 ^ e := by rw [Int.neg_mul]; omega
      rw [this, Int.mul_ediv_cancel _ (by omega)]; omega
  obtain ⟨q, hq⟩ : ∃ q, q = m / 2 ^ e := ⟨_, rfl⟩
  rw [← hq] at hm
  unfold truncB
  rw [hr]
  simp only [Ieee.Datum.integral, cut_zero]
  have e1 : (-(e : Int)).toNat = 0 := by omega
  have e2 : (- -(e : Int)).toNat = e := by omega
  rw [e1, e2, Nat.shiftLeft_zero, ← hq]
  have := whole_nearest s q 0 (by
    cases s <;> simp at hm <;> omega)
  simp only [Nat.pow_zero, Nat.mul_one] at this
  rw [hm] at this
  exact this
theorem run_toIntW {x : Nat} {k : Int} (h : Whole x k) (hk : in_ k) (w : World) : (convert 40 3 (.float .f64 x)).run Try.prog w = .ok (.int .i64 k) w := by
  unfold in_ at hk
  exact run_convert_float_int w 40 3 .f64 .i64 x k (by rw [Try.underlying40]; rfl) Try.underlying3 (toIntVal_whole h (by omega) (by omega))
theorem run_addW {a b c d : Nat} {k l m n : Int} (ha : Whole a k) (hb : Whole b l) (hc : Whole c m) (hd : Whole d n) (h1 : -9007199254740992 < k + m ∧ k + m < 9007199254740992) (h2 : -9007199254740992 < l + n ∧ l + n < 9007199254740992) (t : TypeId) (w : World) : (binOp .add t (.complex .f64 a b) (.complex .f64 c d)).run Try.prog w = .ok (.complex .f64 (addB a c) (addB b d)) w := by
  have e1 : floatBits .add .f64 a c = some (addB a c) := (add_whole ha hc h1.1 h1.2).1
  have e2 : floatBits .add .f64 b d = some (addB b d) := (add_whole hb hd h2.1 h2.2).1
  exact run_complex_sum w .add (Or.inl rfl) t .f64 a b c d _ _ (by unfold cSumBits; rw [e1, e2]; rfl)
theorem run_subW {a b c d : Nat} {k l m n : Int} (ha : Whole a k) (hb : Whole b l) (hc : Whole c m) (hd : Whole d n) (h1 : -9007199254740992 < k - m ∧ k - m < 9007199254740992) (h2 : -9007199254740992 < l - n ∧ l - n < 9007199254740992) (t : TypeId) (w : World) : (binOp .sub t (.complex .f64 a b) (.complex .f64 c d)).run Try.prog w = .ok (.complex .f64 (subB a c) (subB b d)) w := by
  have e1 : floatBits .sub .f64 a c = some (subB a c) := (sub_whole ha hc h1.1 h1.2).1
  have e2 : floatBits .sub .f64 b d = some (subB b d) := (sub_whole hb hd h2.1 h2.2).1
  exact run_complex_sum w .sub (Or.inr rfl) t .f64 a b c d _ _ (by unfold cSumBits; rw [e1, e2]; rfl)
theorem whole_of {n : Int} (h : in_ n) : Whole (fOf n) n := by
  unfold in_ at h
  exact whole_fOf n (by omega) (by omega)
end Go.Proofs.Ytmihmngfmlmndaa
