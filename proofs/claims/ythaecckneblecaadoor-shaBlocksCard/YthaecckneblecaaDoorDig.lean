/- Plain mathematics: numbers as digits of 16 bits, products of them, roots, the first primes. Nothing of the program is named here. -/
namespace Go.Proofs.YthaecckneblecaaDoor.Sh

/-- The number that digits of 16 bits stand for, the lowest first. -/
def V : List Nat → Nat
  | [] => 0
  | d :: r => d + 65536 * V r
/-- Each is a digit. -/
def Dg (l : List Nat) : Prop := ∀ x ∈ l, x < 65536

theorem V_append (a b : List Nat) : V (a ++ b) = V a + 65536 ^ a.length * V b := by
  induction a with
  | nil => simp [V]
  | cons x r ih =>
    simp only [List.cons_append, V, ih, List.length_cons, Nat.pow_succ]
    rw [Nat.mul_add, Nat.add_assoc, ← Nat.mul_assoc, Nat.mul_comm 65536 (65536 ^ r.length)]
theorem V_zeros (n : Nat) : V (List.replicate n 0) = 0 := by
  induction n with
  | zero => rfl
  | succ n ih => simp [List.replicate_succ, V, ih]
theorem V_set (l : List Nat) (i x : Nat) (h : i < l.length) : V (l.set i x) + l[i] * 65536 ^ i = V l + x * 65536 ^ i := by
  induction l generalizing i with
  | nil => simp at h
  | cons d r ih =>
    cases i with
    | zero => simp [V]; omega
    | succ i =>
      have := ih i (by simpa using h)
      simp only [List.set_cons_succ, V, List.getElem_cons_succ, Nat.pow_succ]
      have e : V (r.set i x) * 65536 + r[i]'(by simpa using h) * (65536 ^ i * 65536) = V r * 65536 + x * (65536 ^ i * 65536) := by
        rw [← Nat.mul_assoc, ← Nat.mul_assoc, ← Nat.add_mul, this, Nat.add_mul]
      omega
theorem V_take_succ (l : List Nat) (i : Nat) (h : i < l.length) : V (l.take (i + 1)) = V (l.take i) + l[i] * 65536 ^ i := by
  rw [List.take_succ_eq_append_getElem h, V_append, List.length_take, Nat.min_eq_left (by omega)]
  simp [V, Nat.mul_comm]
theorem V_lt (l : List Nat) (h : Dg l) : V l < 65536 ^ l.length := by
  induction l with
  | nil => simp [V]
  | cons d r ih =>
    have h1 := ih fun x hx => h x (List.mem_cons_of_mem _ hx)
    have h2 := h d List.mem_cons_self
    simp only [V, List.length_cons, Nat.pow_succ]
    omega
theorem Dg.set {l : List Nat} (h : Dg l) (i x : Nat) (hx : x < 65536) : Dg (l.set i x) := by
  intro y hy
  rcases List.mem_or_eq_of_mem_set hy with hm | he
  · exact h y hm
  · omega

theorem carry_lt {o a b c : Nat} (ho : o < 65536) (ha : a < 65536) (hb : b < 65536) (hc : c < 65536) : (o + a * b + c) / 65536 < 65536 := by
  have : a * b ≤ 65535 * 65535 := Nat.mul_le_mul (by omega) (by omega)
  omega
theorem prod_lt {a b : Nat} (ha : a < 65536) (hb : b < 65536) : a * b ≤ 4294836225 := by
  have : a * b ≤ 65535 * 65535 := Nat.mul_le_mul (by omega) (by omega)
  omega
/-- The inner loop's step: T is the number before, T' behind. -/
theorem row_step {T T' o c a b P S : Nat} (h1 : T' + o * P = T + (o + a * b + c) % 65536 * P) (h2 : T + c * P = S) :
    T' + (o + a * b + c) / 65536 * (P * 65536) = S + a * b * P := by
  have e : (o + a * b + c) % 65536 * P + (o + a * b + c) / 65536 * (P * 65536) = (o + a * b + c) * P := by
    rw [Nat.mul_comm P 65536, ← Nat.mul_assoc, ← Nat.add_mul]
    congr 1
    omega
  have e2 : (o + a * b + c) * P = o * P + a * b * P + c * P := by rw [Nat.add_mul, Nat.add_mul]
  omega
theorem tm_step {r b : List Nat} {k q d x y o m S : Nat} (hkq : k + q < r.length) (hq : q < b.length) (ho : o = r[k + q]) (hy : y = b[q]) (hm : m = x * y)
    (h : V r + d * 65536 ^ (k + q) = S + x * 65536 ^ k * V (b.take q)) :
    V (r.set (k + q) ((o + m + d) % 65536)) + (o + m + d) / 65536 * 65536 ^ (k + (q + 1)) = S + x * 65536 ^ k * V (b.take (q + 1)) := by
  subst hm
  have h1 := V_set r (k + q) ((o + x * y + d) % 65536) hkq
  rw [← ho] at h1
  have rs := row_step h1 h
  rw [show k + (q + 1) = k + q + 1 by omega, Nat.pow_succ, rs, V_take_succ b q hq, Nat.mul_add, ← hy, Nat.mul_mul_mul_comm, ← Nat.pow_add, Nat.add_assoc]
theorem tm_end {r a b : List Nat} {k d x : Nat} (hk : k < a.length) (hl : k + b.length < r.length) (hx : x = a[k]) (hz : r[k + b.length] = 0)
    (h : V r + d * 65536 ^ (k + b.length) = V (a.take k) * V b + x * 65536 ^ k * V (b.take b.length)) : V (r.set (k + b.length) (0 + d)) = V (a.take (k + 1)) * V b := by
  have h1 := V_set r (k + b.length) (0 + d) hl
  rw [hz, Nat.zero_mul, Nat.add_zero, Nat.zero_add] at h1
  rw [Nat.zero_add, h1, h, List.take_length, V_take_succ a k hk, Nat.add_mul, hx]
theorem zero_tail {r : List Nat} {n p x : Nat} (hz : ∀ p (h : p < r.length), n ≤ p → r[p] = 0) (hp : p < n) : ∀ j (h : j < (r.set p x).length), n ≤ j → (r.set p x)[j] = 0 := by
  intro j h hj
  rw [List.getElem_set_ne (by omega)]
  exact hz j (by simpa using h) hj
theorem V_split (d : List Nat) (t : Nat) (ht : t ≤ d.length) : V d = V (d.take t) + 65536 ^ t * V (d.drop t) := by
  conv => lhs; rw [← List.take_append_drop t d]
  rw [V_append, List.length_take, Nat.min_eq_left ht]
theorem Dg.take {d : List Nat} (h : Dg d) (t : Nat) : Dg (d.take t) := fun x hx => h x (List.mem_of_mem_take hx)
theorem V_drop_pred (d : List Nat) (t : Nat) (h : t < d.length) : V (d.drop t) = d[t] + 65536 * V (d.drop (t + 1)) := by
  rw [List.drop_eq_getElem_cons h, V]
theorem top_gt {d : List Nat} {t m p : Nat} (hm : m ≤ t) (ht : t ≤ d.length) (hp : p < V (d.drop t)) : ¬ V d ≤ p * 65536 ^ m := by
  have h1 := V_split d t ht
  have h2 : 65536 ^ m ≤ 65536 ^ t := Nat.pow_le_pow_right (by omega) hm
  have h3 : (p + 1) * 65536 ^ t ≤ V (d.drop t) * 65536 ^ t := Nat.mul_le_mul_right _ hp
  have h4 : (p + 1) * 65536 ^ m ≤ (p + 1) * 65536 ^ t := Nat.mul_le_mul_left _ h2
  have h5 : 0 < 65536 ^ m := Nat.pow_pos (by omega)
  rw [Nat.mul_comm (65536 ^ t)] at h1
  have h6 := Nat.le_trans h4 h3
  rw [Nat.add_mul] at h6
  omega
theorem top_lt {d : List Nat} {t p : Nat} (h : Dg d) (ht : t ≤ d.length) (hp : V (d.drop t) < p) : V d ≤ p * 65536 ^ t := by
  have h1 := V_split d t ht
  have h2 := V_lt (d.take t) (h.take t)
  rw [List.length_take, Nat.min_eq_left ht] at h2
  have h3 : (V (d.drop t) + 1) * 65536 ^ t ≤ p * 65536 ^ t := Nat.mul_le_mul_right _ hp
  rw [Nat.mul_comm (65536 ^ t)] at h1
  rw [Nat.add_mul] at h3
  omega
theorem V_zero_of {l : List Nat} (h : ∀ j (hj : j < l.length), l[j] = 0) : V l = 0 := by
  induction l with
  | nil => rfl
  | cons x r ih =>
    have h0 := h 0 (by simp)
    have h1 := ih fun j hj => by have := h (j + 1) (by simpa using hj); simpa using this
    simp only [List.getElem_cons_zero] at h0
    rw [V, h0, h1]
theorem V_pos_of {l : List Nat} {j : Nat} (hj : j < l.length) (h : l[j] ≠ 0) : 0 < V l := by
  induction l generalizing j with
  | nil => simp at hj
  | cons x r ih =>
    cases j with
    | zero => simp at h; rw [V]; omega
    | succ j =>
      have := ih (j := j) (by simpa using hj) (by simpa using h)
      rw [V]; omega
theorem top_eq {d : List Nat} {t p : Nat} (ht : t ≤ d.length) (hp : V (d.drop t) = p) (hz : ∀ j (hj : j < d.length), j < t → d[j] = 0) : V d ≤ p * 65536 ^ t := by
  have h1 := V_split d t ht
  have h2 : V (d.take t) = 0 := V_zero_of fun j hj => by
    rw [List.getElem_take]
    exact hz j _ (by simp at hj; omega)
  rw [h2, hp, Nat.mul_comm] at h1
  omega
theorem top_ne {d : List Nat} {t p j : Nat} (ht : t ≤ d.length) (hp : V (d.drop t) = p) (hj : j < t) (h : d[j]'(by omega) ≠ 0) : ¬ V d ≤ p * 65536 ^ t := by
  have h1 := V_split d t ht
  have h2 : 0 < V (d.take t) := V_pos_of (j := j) (by simp; omega) (by rw [List.getElem_take]; exact h)
  rw [hp, Nat.mul_comm] at h1
  omega
/-- The greatest number of the bits below b that, laid over r, is no greater root: bit by bit. -/
theorem root_step {r b M k : Nat} (hr : r % 2 ^ (b + 1) = 0) (h1 : r ^ k ≤ M) (h2 : M < (r + 2 ^ (b + 1)) ^ k) :
    ((r + 2 ^ b) ^ k ≤ M → (r + 2 ^ b) % 2 ^ b = 0 ∧ (r + 2 ^ b) ^ k ≤ M ∧ M < (r + 2 ^ b + 2 ^ b) ^ k) ∧ (¬ (r + 2 ^ b) ^ k ≤ M → r % 2 ^ b = 0 ∧ r ^ k ≤ M ∧ M < (r + 2 ^ b) ^ k) := by
  have hd : 2 ^ b ∣ r := Nat.dvd_trans ⟨2, by rw [Nat.pow_succ]⟩ (Nat.dvd_of_mod_eq_zero hr)
  refine ⟨fun h => ⟨?_, h, ?_⟩, fun h => ⟨Nat.mod_eq_zero_of_dvd hd, h1, by omega⟩⟩
  · exact Nat.mod_eq_zero_of_dvd (Nat.dvd_add hd (Nat.dvd_refl _))
  · rw [Nat.add_assoc, ← Nat.two_mul, ← Nat.pow_succ']
    exact h2
theorem root_unique {r s M k : Nat} (h1 : r ^ k ≤ M) (h2 : M < (r + 1) ^ k) (h3 : s ^ k ≤ M) (h4 : M < (s + 1) ^ k) : r = s := by
  have a : ¬ r < s := fun h => by
    have := Nat.pow_le_pow_left (show r + 1 ≤ s from h) k
    omega
  have b : ¬ s < r := fun h => by
    have := Nat.pow_le_pow_left (show s + 1 ≤ r from h) k
    omega
  omega
/-- Does none of them divide p? -/
def isNew (p : Nat) (o : List Nat) : Bool := o.all fun q => p % q != 0
/-- The primes below m + 2, as they are found. -/
def pst : Nat → List Nat
  | 0 => []
  | m + 1 => if isNew (m + 2) (pst m) then pst m ++ [m + 2] else pst m
theorem isNew_snoc (p : Nat) (o : List Nat) (i : Nat) (h : i < o.length) : isNew p (o.take (i + 1)) = (isNew p (o.take i) && (p % o[i] != 0)) := by
  unfold isNew
  rw [List.take_succ_eq_append_getElem h, List.all_append, List.all_cons, List.all_nil, Bool.and_true]
theorem pst_ge : ∀ m, ∀ q ∈ pst m, 2 ≤ q
  | 0 => by simp [pst]
  | m + 1 => by
    intro q hq
    rw [pst] at hq
    split at hq
    · rcases List.mem_append.1 hq with h | h
      · exact pst_ge m q h
      · simp at h; omega
    · exact pst_ge m q hq
theorem pst_le (m : Nat) : (pst m).length ≤ (pst (m + 1)).length := by
  rw [pst]
  split
  · simp
  · omega
theorem pst_mono {a b : Nat} (h : a ≤ b) : (pst a).length ≤ (pst b).length := by
  obtain ⟨d, rfl⟩ : ∃ d, b = a + d := ⟨b - a, by omega⟩
  induction d with
  | zero => exact Nat.le_refl _
  | succ d ih => exact Nat.le_trans (ih (by omega)) (pst_le (a + d))
def primes64 : List Nat := [2, 3, 5, 7, 11, 13, 17, 19, 23, 29, 31, 37, 41, 43, 47, 53, 59, 61, 67, 71, 73, 79, 83, 89, 97, 101, 103, 107, 109, 113, 127, 131, 137, 139, 149, 151, 157, 163, 167, 173, 179, 181, 191, 193, 197, 199, 211, 223, 227, 229, 233, 239, 241, 251, 257, 263, 269, 271, 277, 281, 283, 293, 307, 311]
set_option maxRecDepth 100000 in
theorem pst_309 : (pst 309).length = 63 := by decide +kernel
set_option maxRecDepth 100000 in
theorem pst_310 : pst 310 = primes64 := by decide +kernel
end Go.Proofs.YthaecckneblecaaDoor.Sh
