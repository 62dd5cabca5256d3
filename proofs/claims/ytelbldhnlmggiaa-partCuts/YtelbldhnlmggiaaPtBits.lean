/- Flags as the walk has them. -/
import Derived.Test.YtelbldhnlmggiaaPtPlain
import Derived.Test.YtelbldhnlmggiaaRows
import Derived.Laws.Bits128
import Derived.WalkKit
namespace Go.Proofs.Ytelbldhnlmggiaa
open Fr

theorem and_two (M j : Nat) : M &&& 2 ^ j = (M.testBit j).toNat * 2 ^ j := by
  apply Nat.eq_of_testBit_eq
  intro i
  rw [Nat.testBit_and, Nat.testBit_two_pow]
  by_cases h : j = i
  · subst h
    cases hb : M.testBit j with
    | true => simp
    | false => simp
  · rw [decide_eq_false h, Bool.and_false]
    cases M.testBit j with
    | true => simp [h]
    | false => simp
theorem and_pow (F : Int) (j : Nat) (hj : j < 62) : bits .and .i64 F ((2 ^ j : Nat) : Int) = if bit F j then ((2 ^ j : Nat) : Int) else 0 := by
  have hp : (2 : Nat) ^ j < 2 ^ 62 := Nat.pow_lt_pow_right (by omega) hj
  have hp1 : 1 ≤ (2 : Nat) ^ j := Nat.one_le_two_pow
  have hk : (BitVec.ofInt 64 ((2 ^ j : Nat) : Int)).toNat = 2 ^ j := by
    rw [BitVec.toNat_ofInt]
    have : (((2 ^ j : Nat) : Int) % ((2 ^ 64 : Nat) : Int)) = ((2 ^ j : Nat) : Int) := Int.emod_eq_of_lt (by omega) (by omega)
    rw [this, Int.toNat_natCast]
  obtain ⟨M, hM⟩ : ∃ M : Nat, M = (F % ((2 ^ 64 : Nat) : Int)).toNat := ⟨_, rfl⟩
  have key : (BitVec.ofInt 64 F &&& BitVec.ofInt 64 ((2 ^ j : Nat) : Int)).toNat = (M.testBit j).toNat * 2 ^ j := by
    rw [BitVec.toNat_and, BitVec.toNat_ofInt, hk, ← hM, and_two]
  have hbit : M.testBit j = bit F j := by
    rw [Nat.testBit_eq_decide_div_mod_eq, bit]
    have h1 : ((M : Nat) : Int) = F % ((2 ^ 64 : Nat) : Int) := by rw [hM, Int.toNat_of_nonneg (Int.emod_nonneg _ (by decide))]
    have h2 : ((M / 2 ^ j % 2 : Nat) : Int) = F / 2 ^ j % 2 := by
      rw [Int.natCast_emod, Int.natCast_ediv, h1, show ((2 ^ j : Nat) : Int) = 2 ^ j by simp, show ((2 : Nat) : Int) = 2 from rfl]
      have e64 : ((2 ^ 64 : Nat) : Int) = 2 ^ j * (2 ^ (63 - j) * 2) := by
        rw [← Int.pow_succ, ← Int.pow_add, show j + (63 - j + 1) = 64 by omega]
        rfl
      have hd := Int.emod_add_mul_ediv F ((2 ^ 64 : Nat) : Int)
      obtain ⟨q, hq⟩ : ∃ q, q = F / ((2 ^ 64 : Nat) : Int) := ⟨_, rfl⟩
      obtain ⟨m, hm⟩ : ∃ m, m = F % ((2 ^ 64 : Nat) : Int) := ⟨_, rfl⟩
      rw [← hq, ← hm, e64] at hd
      rw [← hm, ← hd, Int.mul_assoc, Int.add_mul_ediv_left _ _ (Int.ne_of_gt (Int.pow_pos (by decide))), Int.mul_comm (2 ^ (63 - j)) 2, Int.mul_assoc, Int.add_mul_emod_self_left]
    have h3 : (M / 2 ^ j % 2 = 1) ↔ (F / 2 ^ j % 2 = 1) := by
      rw [← h2]
      omega
    simp only [h3]
  show IntKind.i64.wrap ((BitVec.ofInt 64 F &&& BitVec.ofInt 64 ((2 ^ j : Nat) : Int)).toNat : Nat) = _
  rw [key, hbit]
  cases bit F j with
  | true =>
    simp only [Bool.toNat_true, Nat.one_mul, if_true]
    rw [IntKind.wrap_i64]
    omega
  | false =>
    simp only [Bool.toNat_false, Nat.zero_mul, Bool.false_eq_true, if_false]
    rw [IntKind.wrap_i64]
    omega
/-- The flag's test, as it stands in the walk. -/
theorem and_is (F : Int) (j : Nat) (hj : j < 62) : (bits .and .i64 F ((2 ^ j : Nat) : Int) == ((2 ^ j : Nat) : Int)) = bit F j := by
  have hp1 : 1 ≤ (2 : Nat) ^ j := Nat.one_le_two_pow
  rw [and_pow F j hj]
  cases bit F j with
  | true => simp
  | false =>
    simp only [Bool.false_eq_true, if_false, beq_eq_false_iff_ne, ne_eq]
    omega
theorem and_on (F : Int) (j : Nat) (hj : j < 62) : (bits .and .i64 F ((2 ^ j : Nat) : Int) != 0) = bit F j := by
  have hp1 : 1 ≤ (2 : Nat) ^ j := Nat.one_le_two_pow
  rw [and_pow F j hj]
  cases bit F j with
  | true =>
    simp only [if_true, bne_iff_ne, ne_eq]
    omega
  | false => simp
end Go.Proofs.Ytelbldhnlmggiaa
