/- Contracts of the landed code's small functions: inByte, allOnes. -/
import Derived.Test.YtpnnojbdpnjokaaPGet
import Derived.Test.YtpnnojbdpnjokaaLScope
namespace Go.Proofs.Ytpnnojbdpnjokaa
open Go.RowKit Pn

/-- What the program's tables want of the world: it has none. -/
def Rdy (_ : World) : Prop := True
theorem Rdy.below {w w' : World} (_ : Rdy w) (_ : Below w.heap.size w w') : Rdy w' := trivial
/-- An int. -/
def Rng (b : Int) : Prop := -9223372036854775808 ≤ b ∧ b ≤ 9223372036854775807
theorem inByte_any (b : Int) (w : World) : Calls Try.prog 14 #[.int .i64 b] w fun e w' => e = .returned (.bool (decide (1 ≤ b ∧ b ≤ 8))) ∧ w = w' := by
  by_cases h1 : 1 ≤ b
  · by_cases h2 : b ≤ 8
    · have d1 : decide ((1 : Int) ≤ b) = true := decide_eq_true h1
      have d2 : decide (b ≤ 8) = true := decide_eq_true h2
      go_enter Try.func14, Try.ntmps14
      go_wp2
      go_ret
      try rw [decide_eq_true (by omega)]
      exact ⟨rfl, rfl⟩
    · have d1 : decide ((1 : Int) ≤ b) = true := decide_eq_true h1
      have d2 : decide (b ≤ 8) = false := decide_eq_false h2
      go_enter Try.func14, Try.ntmps14
      go_wp2
      go_ret
      try rw [decide_eq_false (by omega)]
      exact ⟨rfl, rfl⟩
  · have d1 : decide ((1 : Int) ≤ b) = false := decide_eq_false h1
    go_enter Try.func14, Try.ntmps14
    go_wp2
    go_ret
    try rw [decide_eq_false (by omega)]
    exact ⟨rfl, rfl⟩
theorem ones_any (B : Nat) (w : World) (hB1 : 1 ≤ B) (hB8 : B ≤ 8) : Calls Try.prog 15 #[.int .i64 (B : Int)] w fun e w' => e = .returned (.int .i64 ((full B : Nat) : Int)) ∧ w = w' := by
  obtain ⟨p, hp⟩ : ∃ p, p = 2 ^ B := ⟨_, rfl⟩
  have hp1 : 2 ≤ p := by rw [hp]; exact Nat.pow_le_pow_right (n := 2) (by decide) hB1
  have hp2 : p ≤ 256 := by rw [hp]; exact full_bound hB8
  have ep : ((2 : Int) ^ B) = (p : Int) := by rw [hp]; simp
  obtain ⟨F, hF⟩ : ∃ F, F = full B := ⟨_, rfl⟩
  rw [← hF]
  have HF2 : Hid (F = p - 1) := Lib.hid (by rw [hF, hp, full])
  have eF : (p : Int) - 1 = (F : Int) := by have := HF2.out; omega
  have su := u64_small B (by omega)
  clear hp hF
  go_enter Try.func15, Try.ntmps15
  go_wp2
  go_ret
  exact ⟨rfl, rfl⟩
end Go.Proofs.Ytpnnojbdpnjokaa
