/- Chapter 11 over plain values: what is read of what was made. -/
import Derived.Test.YtelbldhnlmggiaaPtPlain
namespace Fr

theorem val_num4 (n : Nat) (h : n < 4294967296) : val (num n 4) = n := val_num n 4 (by omega)
theorem read_update0 : Fr.read ⟨8, 0, 0, num 0 4⟩ = wrong 1 true := by simp [Fr.read, num_len, val_num4]
theorem read_update (S : Int) (n : Nat) (h1 : 1 ≤ n) (h2 : n ≤ 2147483647) : Fr.read ⟨8, 0, S, num n 4⟩ = (⟨[], 0, 0, 0, n, [], false, false, false⟩, noFlt) := by
  have e : n % 2147483648 = n := Nat.mod_eq_of_lt (by omega)
  simp [Fr.read, num_len, val_num4 n (by omega), noPrt, e]
  omega
theorem read_rst (S : Int) (n : Nat) (hS : S ≠ 0) (h2 : n ≤ 2147483647) : Fr.read ⟨3, 0, S, num n 4⟩ = (⟨[], 0, n, 0, 0, [], false, false, false⟩, noFlt) := by
  simp [Fr.read, num_len, val_num4 n (by omega), noPrt, hS]
theorem read_goaway (s n : Nat) (h1 : s ≤ 2147483647) (h2 : n ≤ 2147483647) : Fr.read ⟨7, 0, 0, num s 4 ++ num n 4⟩ = (⟨[], 0, n, s, 0, [], false, false, false⟩, noFlt) := by
  have e : s % 2147483648 = s := Nat.mod_eq_of_lt (by omega)
  have e1 : (num s 4 ++ num n 4).take 4 = num s 4 := List.take_left' (num_len s 4)
  have e2 : ((num s 4 ++ num n 4).drop 4).take 4 = num n 4 := by rw [List.drop_left' (num_len s 4), List.take_of_length_le (by rw [num_len]; omega)]
  simp only [Fr.read]
  rw [e1, e2, val_num4 n (by omega), val_num4 s (by omega), e]
  simp [num_len, noPrt]
/-- The bytes of settings. -/
def setsB : List (Int × Int) → List Nat
  | [] => []
  | s :: r => num s.1.toNat 2 ++ num s.2.toNat 4 ++ setsB r
def setOk (s : Int × Int) : Prop := 0 ≤ s.1 ∧ s.1 ≤ 65535 ∧ 0 ≤ s.2 ∧ s.2 < 4294967296
theorem setsB_len : ∀ l, (setsB l).length = 6 * l.length
  | [] => rfl
  | s :: r => by
    rw [setsB, List.length_append, List.length_append, num_len, num_len, setsB_len r, List.length_cons]
    omega
theorem setsB_byte : ∀ l, ∀ x ∈ setsB l, x < 256
  | [], x, h => by cases h
  | s :: r, x, h => by
    rw [setsB] at h
    rcases List.mem_append.1 h with h | h
    · rcases List.mem_append.1 h with h | h
      · exact num_byte _ _ x h
      · exact num_byte _ _ x h
    · exact setsB_byte r x h
theorem sixes_setsB : ∀ l : List (Int × Int), (∀ s ∈ l, setOk s) → sixes (setsB l) = l
  | [], _ => rfl
  | s :: r, h => by
    obtain ⟨h1, h2, h3, h4⟩ := h s List.mem_cons_self
    have e : setsB (s :: r) = (s.1.toNat / 256 ^ 1 % 256) :: (s.1.toNat / 256 ^ 0 % 256) :: (s.2.toNat / 256 ^ 3 % 256) :: (s.2.toNat / 256 ^ 2 % 256) :: (s.2.toNat / 256 ^ 1 % 256) :: (s.2.toNat / 256 ^ 0 % 256) :: setsB r := by
      rw [setsB]
      simp [num]
    have v1 : val [s.1.toNat / 256 ^ 1 % 256, s.1.toNat / 256 ^ 0 % 256] = s.1.toNat := val_num s.1.toNat 2 (by omega)
    have v2 : val [s.2.toNat / 256 ^ 3 % 256, s.2.toNat / 256 ^ 2 % 256, s.2.toNat / 256 ^ 1 % 256, s.2.toNat / 256 ^ 0 % 256] = s.2.toNat := val_num s.2.toNat 4 (by omega)
    rw [e, sixes, v1, v2, sixes_setsB r (fun t ht => h t (List.mem_cons_of_mem _ ht)), Int.toNat_of_nonneg h1, Int.toNat_of_nonneg h3]
theorem read_settings (l : List (Int × Int)) (h : ∀ s ∈ l, setOk s) : Fr.read ⟨4, 0, 0, setsB l⟩ = (⟨[], 0, 0, 0, 0, l, false, false, false⟩, noFlt) := by
  have e0 : bit 0 0 = false := by decide
  simp [Fr.read, e0, setsB_len, sixes_setsB l h, noPrt]
theorem read_padded (S : Int) (hS : S ≠ 0) (pad : Nat) (b : List Nat) : Fr.read ⟨0, 9, S, pad :: b ++ List.replicate pad 0⟩ = (⟨b, pad + 1, 0, 0, 0, [], true, false, false⟩, noFlt) := by
  have e3 : bit 9 3 = true := by decide
  have e0 : bit 9 0 = true := by decide
  simp [Fr.read, padded, prior, padIn, hS, e3, e0]
  intro h
  omega
theorem read_short (S : Int) (hS : S ≠ 0) (pad : Nat) (b : List Nat) : ∃ c, Fr.read ⟨0, 8, S, (pad :: b ++ List.replicate pad 0).take pad⟩ = wrong c true ∧ (c = 1 ∨ (pad = 0 ∧ c = 6)) := by
  have e3 : bit 8 3 = true := by decide
  cases pad with
  | zero => exact ⟨6, by simp [Fr.read, padded, hS, e3], .inr ⟨rfl, rfl⟩⟩
  | succ n =>
    refine ⟨1, ?_, .inl rfl⟩
    have hl : ((b ++ List.replicate (n + 1) 0).take n).length ≤ n := by rw [List.length_take]; omega
    simp only [Fr.read, padded, List.cons_append, List.take_succ_cons, e3, if_true, if_neg hS, prior, padIn]
    simp
    omega
/-- Frames of the connection on a stream, of a stream on none; kinds that are not known. -/
theorem read_scope (i : Nat) (F S : Int) (b : List Nat) (hS : S ≠ 0) (hi : i ≤ 9) (h8 : i ≠ 8) : Fr.read ⟨(i : Int), F, if i = 4 ∨ i = 6 ∨ i = 7 then S else 0, b⟩ = wrong 1 true := by
  have : i = 0 ∨ i = 1 ∨ i = 2 ∨ i = 3 ∨ i = 4 ∨ i = 5 ∨ i = 6 ∨ i = 7 ∨ i = 9 := by omega
  rcases this with rfl | rfl | rfl | rfl | rfl | rfl | rfl | rfl | rfl <;> simp [Fr.read, padded, hS]
theorem read_other (k F S : Int) (b : List Nat) (hk : 9 < k) : Fr.read ⟨k, F, S, b⟩ = (noPrt, noFlt) := by
  have h : ∀ j : Int, j ≤ 9 → k ≠ j := fun j hj e => by omega
  simp [Fr.read, h]
end Fr
