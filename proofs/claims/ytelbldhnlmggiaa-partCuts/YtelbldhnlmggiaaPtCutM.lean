/- Chapter 11 over plain values: bodies a byte too short or too long. -/
import Derived.Test.YtelbldhnlmggiaaPtBackM
namespace Fr
def cutK (k : Nat) : Nat := [2, 3, 4, 6, 7, 8].getD k 0
def cutN (k : Nat) : Nat := [5, 4, 6, 8, 8, 4].getD k 0
theorem cut_cases {k : Nat} (h : k < 6) : k = 0 ∨ k = 1 ∨ k = 2 ∨ k = 3 ∨ k = 4 ∨ k = 5 := by omega
theorem cut_wrong (k : Nat) (S : Int) (hS : S ≠ 0) (h : k < 6) (m : Nat) (hm : m ≤ 1) (hf : ¬ (k = 4 ∧ m = 1)) : Fr.read ⟨(cutK k : Int), 0, if k = 2 ∨ k = 3 ∨ k = 4 then 0 else S, List.replicate (if m = 1 then cutN k + 1 else cutN k - 1) 0⟩ = wrong 6 (decide (cutK k ≠ 2)) := by
  rcases cut_cases h with rfl | rfl | rfl | rfl | rfl | rfl <;> rcases (show m = 0 ∨ m = 1 by omega) with rfl | rfl <;> first
    | exact absurd ⟨rfl, rfl⟩ hf
    | simp [Fr.read, cutK, cutN, hS, wrong]
theorem cut_long : Fr.read ⟨7, 0, 0, List.replicate 9 0⟩ = (⟨[], 0, 0, 0, 0, [], false, false, false⟩, noFlt) := by
  have e : List.replicate 9 0 = [0, 0, 0, 0, 0, 0, 0, 0, 0] := rfl
  rw [e]
  simp [Fr.read, val, vals, noPrt]
theorem cut_right (k : Nat) (S : Int) (hS : S ≠ 0) (h : k < 6) : ∃ P, Fr.read ⟨(cutK k : Int), 0, if k = 2 ∨ k = 3 ∨ k = 4 then 0 else S, List.replicate (cutN k - 1) 0 ++ [1]⟩ = (P, noFlt) := by
  have e0 : bit 0 0 = false := by decide
  have e1 : val [0, 0, 0, 1] = 1 := by decide
  rcases cut_cases h with rfl | rfl | rfl | rfl | rfl | rfl
  · exact ⟨_, by simp [Fr.read, cutK, cutN, hS]; rfl⟩
  · exact ⟨_, by simp [Fr.read, cutK, cutN, hS]; rfl⟩
  · exact ⟨_, by simp [Fr.read, cutK, cutN, e0]; rfl⟩
  · exact ⟨_, by simp [Fr.read, cutK, cutN]; rfl⟩
  · exact ⟨_, by simp [Fr.read, cutK, cutN]; rfl⟩
  · exact ⟨_, by simp [Fr.read, cutK, cutN, e1]; rfl⟩
end Fr
