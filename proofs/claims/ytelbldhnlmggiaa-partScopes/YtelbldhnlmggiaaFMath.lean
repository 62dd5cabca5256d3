/- Chapter 10 over plain values: numbers in bytes. -/
namespace Fr

/-- The lowest n bytes of a number, the greatest first. -/
def num (v : Nat) : Nat → List Nat
  | 0 => []
  | n + 1 => (v / 256 ^ n % 256) :: num v n
/-- The number of bytes. -/
def vals : List Nat → Nat → Nat
  | [], v => v
  | x :: r, v => vals r (v * 256 + x)
def val (l : List Nat) : Nat := vals l 0
theorem num_len (v : Nat) : ∀ n, (num v n).length = n
  | 0 => rfl
  | n + 1 => by rw [num, List.length_cons, num_len v n]
theorem num_byte (v : Nat) : ∀ n, ∀ x ∈ num v n, x < 256
  | 0 => by simp [num]
  | n + 1 => by
    intro x hx
    rw [num] at hx
    rcases List.mem_cons.1 hx with rfl | hx
    · exact Nat.mod_lt _ (by omega)
    · exact num_byte v n x hx
theorem vals_lt : ∀ (l : List Nat) (v k : Nat), (∀ x ∈ l, x < 256) → v < 256 ^ k → vals l v < 256 ^ (k + l.length)
  | [], v, k, _, h => by simpa [vals] using h
  | x :: r, v, k, hl, h => by
    have hx := hl x (by simp)
    have h1 : v * 256 + x < 256 ^ (k + 1) := by rw [Nat.pow_succ]; omega
    have := vals_lt r (v * 256 + x) (k + 1) (fun y hy => hl y (by simp [hy])) h1
    rw [vals, List.length_cons, show k + (r.length + 1) = k + 1 + r.length by omega]
    exact this
theorem val_lt (l : List Nat) (h : ∀ x ∈ l, x < 256) : val l < 256 ^ l.length := by
  have := vals_lt l 0 0 h (by simp)
  simpa [val] using this
theorem vals_num (v : Nat) : ∀ (n u : Nat), vals (num v n) u = u * 256 ^ n + v % 256 ^ n
  | 0, u => by simp [num, vals, Nat.mod_one]
  | n + 1, u => by
    have h1 : v % (256 ^ n * 256) = v % 256 ^ n + 256 ^ n * (v / 256 ^ n % 256) := Nat.mod_mul
    rw [num, vals, vals_num v n, Nat.pow_succ, h1, Nat.add_mul, Nat.mul_assoc u, Nat.mul_comm 256 (256 ^ n), Nat.mul_comm (v / 256 ^ n % 256) (256 ^ n)]
    omega
/-- There and back. -/
theorem val_num (v n : Nat) (h : v < 256 ^ n) : val (num v n) = v := by
  rw [val, vals_num, Nat.zero_mul, Nat.zero_add, Nat.mod_eq_of_lt h]
end Fr
