/- Plain mathematics of numbers with a prefix: what Put lays, what Get reads. -/
import Derived.Test.YtelbldhnlmggiaaLMem
namespace Pn

/-- f bytes that go on, and a last one. -/
def digs : Nat → Nat → List Nat
  | 0, m => [m]
  | f + 1, m => (m % 128 + 128) :: digs f (m / 128)
/-- How many bytes go on. -/
def nd (m : Nat) : Nat := if h : m < 128 then 0 else nd (m / 128) + 1
termination_by m
decreasing_by omega
def grp (m : Nat) : List Nat := digs (nd m) m
theorem nd_low {m : Nat} (h : m < 128) : nd m = 0 := by rw [nd, dif_pos h]
theorem nd_high {m : Nat} (h : ¬ m < 128) : nd m = nd (m / 128) + 1 := by rw [nd, dif_neg h]
theorem grp_low {m : Nat} (h : m < 128) : grp m = [m] := by rw [grp, nd_low h, digs]
theorem grp_high {m : Nat} (h : ¬ m < 128) : grp m = (m % 128 + 128) :: grp (m / 128) := by rw [grp, nd_high h, digs, grp]
theorem digs_len : ∀ f m, (digs f m).length = f + 1
  | 0, _ => rfl
  | f + 1, m => by rw [digs, List.length_cons, digs_len f]
theorem grp_len (m : Nat) : (grp m).length = nd m + 1 := digs_len _ _
theorem nd_lt : ∀ (f m : Nat), m < 128 ^ (f + 1) → nd m ≤ f
  | 0, m, h => by rw [nd_low (by simpa using h)]; exact Nat.le_refl _
  | f + 1, m, h => by
    by_cases h1 : m < 128
    · rw [nd_low h1]; omega
    · rw [nd_high h1]
      have := nd_lt f (m / 128) (Nat.div_lt_of_lt_mul (by rw [Nat.pow_succ, Nat.mul_comm] at h; exact h))
      omega
theorem lt_nd (m : Nat) : m < 128 ^ (nd m + 1) := by
  induction m using Nat.strongRecOn with
  | _ m ih =>
    by_cases h : m < 128
    · rw [nd_low h]; simpa using h
    · have h2 := ih (m / 128) (by omega)
      rw [nd_high h, Nat.pow_succ]
      omega
theorem nd_mono : ∀ (m n : Nat), n ≤ m → nd n ≤ nd m := by
  intro m
  induction m using Nat.strongRecOn with
  | _ m ih =>
    intro n hn
    by_cases h : n < 128
    · rw [nd_low h]; exact Nat.zero_le _
    · rw [nd_high h, nd_high (show ¬ m < 128 by omega)]
      have := ih (m / 128) (by omega) (n / 128) (Nat.div_le_div_right hn)
      omega
theorem digs_byte : ∀ f m, m < 128 ^ (f + 1) → ∀ x ∈ digs f m, x < 256
  | 0, m, h => by intro x hx; simp [digs] at hx; simp at h; omega
  | f + 1, m, h => by
    intro x hx
    rw [digs, List.mem_cons] at hx
    rcases hx with rfl | hx
    · omega
    · exact digs_byte f (m / 128) (Nat.div_lt_of_lt_mul (by rw [Nat.pow_succ, Nat.mul_comm] at h; exact h)) x hx
/-- One more byte, a nought, behind: the last one goes on. -/
theorem digs_pad : ∀ f m, m < 128 ^ (f + 1) → ∃ y, y < 128 ∧ (digs f m)[f]? = some y ∧ (digs f m).set f (y + 128) ++ [0] = digs (f + 1) m
  | 0, m, h => by
    simp at h
    refine ⟨m, h, rfl, ?_⟩
    simp [digs]
    omega
  | f + 1, m, h => by
    obtain ⟨y, h1, h2, h3⟩ := digs_pad f (m / 128) (Nat.div_lt_of_lt_mul (by rw [Nat.pow_succ, Nat.mul_comm] at h; exact h))
    refine ⟨y, h1, by rw [digs]; simpa using h2, ?_⟩
    rw [digs, List.set_cons_succ, List.cons_append, h3]
    rfl
/-- The bytes read on: fuel, bytes, how many were read, the sum. -/
def rd : Nat → List Nat → Nat → Nat → Nat × Nat × Nat
  | 0, _, _, _ => (0, 0, 1)
  | _ + 1, [], _, _ => (0, 0, 4)
  | f + 1, x :: r, j, n => if 2147483647 < n + x % 128 * 2 ^ (7 * j) then (0, 0, 1) else if x < 128 then (n + x % 128 * 2 ^ (7 * j), j + 2, 0) else rd f r (j + 1) (n + x % 128 * 2 ^ (7 * j))
theorem pow_next (j : Nat) : 2 ^ (7 * (j + 1)) = 128 * 2 ^ (7 * j) := by rw [show 7 * (j + 1) = 7 * j + 7 by omega, Nat.pow_add, Nat.mul_comm]
theorem split_sum (m p : Nat) : m % 128 * p + m / 128 * (128 * p) = m * p := by
  conv => rhs; rw [← Nat.mod_add_div m 128, Nat.add_mul]
  congr 1
  rw [← Nat.mul_assoc, Nat.mul_comm (m / 128) 128]
theorem rd_digs : ∀ (g f m j n : Nat) (more : List Nat), g < f → m < 128 ^ (g + 1) → n + m * 2 ^ (7 * j) ≤ 2147483647 → rd f (digs g m ++ more) j n = (n + m * 2 ^ (7 * j), j + g + 2, 0)
  | 0, f + 1, m, j, n, more, _, hm, hn => by
    simp at hm
    rw [digs, List.cons_append, rd, Nat.mod_eq_of_lt hm, if_neg (by omega), if_pos hm]
  | g + 1, f + 1, m, j, n, more, hf, hm, hn => by
    have h1 := split_sum m (2 ^ (7 * j))
    rw [← pow_next] at h1
    rw [digs, List.cons_append, rd, show (m % 128 + 128) % 128 = m % 128 by omega, if_neg (by omega), if_neg (by omega), rd_digs g f (m / 128) (j + 1) _ more (by omega) (Nat.div_lt_of_lt_mul (by rw [Nat.pow_succ, Nat.mul_comm] at hm; exact hm)) (by omega)]
    rw [show n + m % 128 * 2 ^ (7 * j) + m / 128 * 2 ^ (7 * (j + 1)) = n + m * 2 ^ (7 * j) by omega, show j + 1 + g + 2 = j + (g + 1) + 2 by omega]
theorem rd_cut : ∀ (g f m j n c : Nat), g < f → c ≤ g → n + m * 2 ^ (7 * j) ≤ 2147483647 → rd f ((digs g m).take c) j n = (0, 0, 4)
  | _, f + 1, m, j, n, 0, _, _, _ => by rw [List.take_zero, rd]
  | g + 1, f + 1, m, j, n, c + 1, hf, hc, hn => by
    have h1 := split_sum m (2 ^ (7 * j))
    rw [← pow_next] at h1
    rw [digs, List.take_succ_cons, rd, show (m % 128 + 128) % 128 = m % 128 by omega, if_neg (by omega), if_neg (by omega), rd_cut g f (m / 128) (j + 1) _ c (by omega) (by omega) (by omega)]
theorem rd_over : ∀ (f m j n : Nat) (more : List Nat), rd f (digs f m ++ more) j n = (0, 0, 1)
  | 0, _, _, _, _ => by rw [rd]
  | f + 1, m, j, n, more => by
    rw [digs, List.cons_append, rd]
    split
    · rfl
    · rw [if_neg (by omega), rd_over f]
def full (b : Nat) : Nat := 2 ^ b - 1
def hd (h b : Nat) : Nat := h / 2 ^ b * 2 ^ b
def put (h b n : Nat) : List Nat := if n < full b then [hd h b + n] else (hd h b + full b) :: grp (n - full b)
def putI (h : Nat) (b n : Int) : List Nat × Nat := if b < 1 ∨ 8 < b ∨ n < 0 ∨ 2147483647 < n then ([], 1) else (put h b.toNat n.toNat, 0)
def getN (l : List Nat) (b : Nat) : Nat × Nat × Nat :=
  match l with
  | [] => (0, 0, 4)
  | x :: r => if x % 2 ^ b < full b then (x % 2 ^ b, 1, 0) else rd 5 r 0 (x % 2 ^ b)
def getI (l : List Nat) (b : Int) : Nat × Nat × Nat := if b < 1 ∨ 8 < b then (0, 0, 1) else getN l b.toNat
theorem two_pos (b : Nat) : 0 < 2 ^ b := Nat.two_pow_pos b
theorem hd_mod (h b r : Nat) (hr : r < 2 ^ b) : (hd h b + r) % 2 ^ b = r := by rw [hd, Nat.add_comm, Nat.add_mul_mod_self_right, Nat.mod_eq_of_lt hr]
theorem hd_div (h b r : Nat) (hr : r < 2 ^ b) : (hd h b + r) / 2 ^ b = h / 2 ^ b := by rw [hd, Nat.add_comm, Nat.add_mul_div_right _ _ (two_pos b), Nat.div_eq_of_lt hr, Nat.zero_add]
theorem full_lt (b : Nat) : full b < 2 ^ b := by have := two_pos b; unfold full; omega
theorem hd_byte (h b r : Nat) (hh : h < 256) (hb : b ≤ 8) (hr : r < 2 ^ b) : hd h b + r < 256 := by
  have e : 256 = 2 ^ (8 - b) * 2 ^ b := by rw [← Nat.pow_add, show 8 - b + b = 8 by omega]
  have h1 : h / 2 ^ b < 2 ^ (8 - b) := Nat.div_lt_of_lt_mul (by rw [Nat.mul_comm, ← e]; exact hh)
  have h2 : (h / 2 ^ b + 1) * 2 ^ b ≤ 2 ^ (8 - b) * 2 ^ b := Nat.mul_le_mul_right _ h1
  rw [← e, Nat.add_mul] at h2
  unfold hd
  omega
theorem grp_nd {m : Nat} (h : m ≤ 2147483647) : nd m ≤ 4 := nd_lt 4 m (by omega)
theorem get_put (h b n : Nat) (more : List Nat) (hn : n ≤ 2147483647) : getN (put h b n ++ more) b = (n, (put h b n).length, 0) := by
  have hf := full_lt b
  unfold put
  split
  · rename_i h1
    rw [List.singleton_append, getN, hd_mod _ _ _ (by omega), if_pos h1]
    rfl
  · rename_i h1
    rw [List.cons_append, getN, hd_mod _ _ _ hf, if_neg (by omega), grp, rd_digs _ 5 _ 0 _ more (by have := grp_nd (m := n - full b) (by omega); omega) (lt_nd _) (by simp; omega)]
    simp [digs_len]
    omega
theorem get_cut (h b n c : Nat) (hn : n ≤ 2147483647) (hc : c < (put h b n).length) : getN ((put h b n).take c) b = (0, 0, 4) := by
  have hf := full_lt b
  rcases c with _ | c
  · rw [List.take_zero, getN]
  unfold put at hc ⊢
  split at hc
  · simp at hc
  · rename_i h1
    rw [if_neg h1, List.take_succ_cons, getN, hd_mod _ _ _ hf, if_neg (by omega), grp]
    rw [List.length_cons, grp_len] at hc
    exact rd_cut _ 5 _ 0 _ c (by have := grp_nd (m := n - full b) (by omega); omega) (by omega) (by simp; omega)
theorem put_len (h b n : Nat) : (put h b n).length = if n < full b then 1 else nd (n - full b) + 2 := by
  unfold put
  split
  · rfl
  · rw [List.length_cons, grp_len]
theorem put_pos (h b n : Nat) : 1 ≤ (put h b n).length := by rw [put_len]; split <;> omega
theorem put_six (h b n : Nat) (hn : n ≤ 2147483647) : (put h b n).length ≤ 6 := by
  rw [put_len]
  split
  · omega
  · have := grp_nd (m := n - full b) (by omega); omega
theorem put_mono (h h' b n m : Nat) (hnm : n ≤ m) : (put h b n).length ≤ (put h' b m).length := by
  rw [put_len, put_len]
  split
  · split <;> omega
  · rw [if_neg (by omega)]
    have := nd_mono (m - full b) (n - full b) (by omega)
    omega
theorem put_inj (h b n m : Nat) (hn : n ≤ 2147483647) (hm : m ≤ 2147483647) (e : put h b n = put h b m) : n = m := by
  have h1 := get_put h b n [] hn
  have h2 := get_put h b m [] hm
  rw [e, h2] at h1
  injection h1 with h1
  exact h1.symm
theorem put_byte (h b n : Nat) (hh : h < 256) (hb : b ≤ 8) : ∀ x ∈ put h b n, x < 256 := by
  have hf := full_lt b
  intro x hx
  unfold put at hx
  split at hx
  · rw [List.mem_singleton] at hx
    rw [hx]
    exact hd_byte h b n hh hb (by omega)
  · rw [List.mem_cons] at hx
    rcases hx with rfl | hx
    · exact hd_byte h b _ hh hb hf
    · exact digs_byte _ _ (lt_nd _) x hx
theorem putI_in {h : Nat} {b n : Int} (hb : 1 ≤ b ∧ b ≤ 8) (hn : 0 ≤ n ∧ n ≤ 2147483647) : putI h b n = (put h b.toNat n.toNat, 0) := by rw [putI, if_neg (by omega)]
theorem putI_out {h : Nat} {b n : Int} (hb : ¬ (1 ≤ b ∧ b ≤ 8 ∧ 0 ≤ n ∧ n ≤ 2147483647)) : putI h b n = ([], 1) := by rw [putI, if_pos (by omega)]
theorem putI_len (h : Nat) (b n : Int) : (putI h b n).1.length ≤ 6 := by
  unfold putI
  split
  · simp
  · exact put_six _ _ _ (by omega)
theorem putI_byte (h : Nat) (b n : Int) (hh : h < 256) : ∀ x ∈ (putI h b n).1, x < 256 := by
  unfold putI
  split
  · simp
  · exact put_byte _ _ _ hh (by omega)
/-- What is laid longer than it must be. -/
theorem get_long (x b m : Nat) (hx : x % 2 ^ b = full b) (hm : full b + m ≤ 2147483647) : getN (x :: digs 4 m) b = (full b + m, 6, 0) := by
  have h := rd_digs 4 5 m 0 (full b) [] (by omega) (by omega) (by simp; omega)
  rw [List.append_nil] at h
  rw [getN, hx, if_neg (by omega), h]
  simp
theorem get_over (x b m : Nat) (hx : x % 2 ^ b = full b) : getN (x :: digs 5 m) b = (0, 0, 1) := by
  have h := rd_over 5 m 0 (full b) []
  rw [List.append_nil] at h
  rw [getN, hx, if_neg (by omega), h]
theorem and_low (x b : Nat) : x &&& full b = x % 2 ^ b := Nat.and_two_pow_sub_one_eq_mod x b
theorem clear_low : ∀ b : Fin 9, ∀ x : Fin 256, x.val &&& (255 - (2 ^ b.val - 1)) = x.val / 2 ^ b.val * 2 ^ b.val := by decide +kernel
theorem full_bound {b : Nat} (h : b ≤ 8) : 2 ^ b ≤ 256 := Nat.pow_le_pow_right (by decide) h
end Pn
/- Bits of numbers that are not below nought. -/
namespace Go.Proofs.Ytelbldhnlmggiaa
open Go.RowKit Pn

theorem i64_ofNat (a : Nat) (ha : a < 9223372036854775808) : IntKind.i64.wrap (a : Int) = (a : Int) := by rw [IntKind.wrap_i64]; omega
theorem i64_and_nat (a b : Nat) (ha : a < 9223372036854775808) (hb : b < 9223372036854775808) : bits .and .i64 (a : Int) (b : Int) = ((a &&& b : Nat) : Int) := by
  have hx : a &&& b < 2 ^ 63 := Nat.and_lt_two_pow _ (by omega)
  show IntKind.i64.wrap ((BitVec.ofInt 64 (a : Int) &&& BitVec.ofInt 64 (b : Int)).toNat : Int) = _
  rw [BitVec.toNat_and, ofInt_u64 a (by omega), ofInt_u64 b (by omega)]
  exact i64_ofNat _ (by omega)
theorem i64_or_nat (a b : Nat) (ha : a < 9223372036854775808) (hb : b < 9223372036854775808) : bits .or .i64 (a : Int) (b : Int) = ((a ||| b : Nat) : Int) := by
  have hx : a ||| b < 2 ^ 63 := Nat.or_lt_two_pow (by omega) (by omega)
  show IntKind.i64.wrap ((BitVec.ofInt 64 (a : Int) ||| BitVec.ofInt 64 (b : Int)).toNat : Int) = _
  rw [BitVec.toNat_or, ofInt_u64 a (by omega), ofInt_u64 b (by omega)]
  exact i64_ofNat _ (by omega)
theorem u64_small (B : Nat) (h : B ≤ 1000) : IntKind.u64.wrap (B : Int) = (B : Int) := by
  have e : ∀ z : Int, IntKind.u64.wrap z = z % 18446744073709551616 := fun z => by simp [IntKind.wrap, IntKind.bits, IntKind.signed]
  rw [e]
  omega
end Go.Proofs.Ytelbldhnlmggiaa
