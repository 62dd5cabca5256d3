/- Huffman's code of RFC 7541: bits, packing into bytes, reading bit by bit. Nothing of the program is named here. -/
import Derived.Test.YtpoffmnaoohkpaaDoorHMath
namespace Go.Proofs.YtpoffmnaoohkpaaDoor.Hf

abbrev ln (i : Nat) : Nat := lens.getD i 0
abbrev cd (i : Nat) : Nat := cods.getD i 0
/-- The bits of a code, the first bit first. -/
def bOf (i : Nat) : List Nat := (List.range (ln i)).map fun k => cd i / 2 ^ (ln i - 1 - k) % 2
def eBits : List Nat → List Nat
  | [] => []
  | x :: r => bOf x ++ eBits r
def nBits : List Nat → Nat
  | [] => 0
  | x :: r => ln x + nBits r
theorem bOf_len (i : Nat) : (bOf i).length = ln i := by simp [bOf]
theorem eBits_len : ∀ l, (eBits l).length = nBits l
  | [] => rfl
  | x :: r => by rw [eBits, nBits, List.length_append, bOf_len, eBits_len r]
theorem eBits_app (a b : List Nat) : eBits (a ++ b) = eBits a ++ eBits b := by
  induction a with
  | nil => rfl
  | cons x r ih => simp [eBits, ih]
theorem nBits_app (a b : List Nat) : nBits (a ++ b) = nBits a + nBits b := by
  induction a with
  | nil => simp [nBits]
  | cons x r ih => simp [nBits, ih]; omega
/-- Each is a bit. -/
def Bt (B : List Nat) : Prop := ∀ x ∈ B, x ≤ 1
theorem bOf_bt (i : Nat) : Bt (bOf i) := by
  intro x hx
  simp only [bOf, List.mem_map] at hx
  obtain ⟨k, _, rfl⟩ := hx
  omega
theorem eBits_bt : ∀ l, Bt (eBits l)
  | [] => fun x hx => by simp [eBits] at hx
  | y :: r => fun x hx => by
    rw [eBits, List.mem_append] at hx
    rcases hx with h | h
    · exact bOf_bt y x h
    · exact eBits_bt r x h
theorem getD_bt {B : List Nat} (h : Bt B) (i d : Nat) (hd : d ≤ 1) : B.getD i d ≤ 1 := by
  rcases Nat.lt_or_ge i B.length with hl | hl
  · rw [List.getD, List.getElem?_eq_getElem hl]
    exact h _ (List.getElem_mem _)
  · rw [List.getD, List.getElem?_eq_none hl]
    exact hd
/-- The k-th byte; where there is no bit any more, a one. -/
def byteAt (B : List Nat) (k : Nat) : Nat :=
  B.getD (8 * k) 1 * 128 + B.getD (8 * k + 1) 1 * 64 + B.getD (8 * k + 2) 1 * 32 + B.getD (8 * k + 3) 1 * 16 + B.getD (8 * k + 4) 1 * 8 + B.getD (8 * k + 5) 1 * 4 + B.getD (8 * k + 6) 1 * 2 + B.getD (8 * k + 7) 1
def pack (B : List Nat) : List Nat := (List.range ((B.length + 7) / 8)).map (byteAt B)
theorem pack_len (B : List Nat) : (pack B).length = (B.length + 7) / 8 := by simp [pack]
theorem byteAt_lt {B : List Nat} (h : Bt B) (k : Nat) : byteAt B k < 256 := by
  have g := fun i => getD_bt h i 1 (Nat.le_refl _)
  have h0 := g (8 * k)
  have h1 := g (8 * k + 1)
  have h2 := g (8 * k + 2)
  have h3 := g (8 * k + 3)
  have h4 := g (8 * k + 4)
  have h5 := g (8 * k + 5)
  have h6 := g (8 * k + 6)
  have h7 := g (8 * k + 7)
  unfold byteAt
  omega
theorem pack_byte {B : List Nat} (h : Bt B) : ∀ x ∈ pack B, x < 256 := by
  intro x hx
  simp only [pack, List.mem_map] at hx
  obtain ⟨k, _, rfl⟩ := hx
  exact byteAt_lt h k
theorem getD_one (B : List Nat) (m : Nat) : (B ++ [1]).getD m 1 = B.getD m 1 := by
  rcases Nat.lt_trichotomy m B.length with h | h | h
  · simp [List.getD, List.getElem?_append_left h]
  · subst h; simp [List.getD]
  · rw [List.getD, List.getElem?_eq_none (by simp; omega), List.getD, List.getElem?_eq_none (by omega)]
theorem byteAt_one (B : List Nat) (k : Nat) : byteAt (B ++ [1]) k = byteAt B k := by
  unfold byteAt
  simp only [getD_one]
/-- A one more. -/
theorem pack_one (B : List Nat) : pack (B ++ [1]) = if B.length % 8 = 0 then pack B ++ [255] else pack B := by
  unfold pack
  rw [show byteAt (B ++ [1]) = byteAt B from funext (byteAt_one B), List.length_append]
  split
  · rename_i h
    rw [show (B.length + [1].length + 7) / 8 = (B.length + 7) / 8 + 1 by simp; omega, List.range_succ, List.map_append]
    congr 1
    simp only [List.map_cons, List.map_nil]
    congr 1
    have hk : 8 * ((B.length + 7) / 8) = B.length := by omega
    unfold byteAt
    rw [hk]
    have e : ∀ j, B.getD (B.length + j) 1 = 1 := fun j => by rw [List.getD, List.getElem?_eq_none (by omega)]; rfl
    have e0 : B.getD B.length 1 = 1 := e 0
    rw [e0, e, e, e, e, e, e, e]
  · rename_i h
    rw [show (B.length + [1].length + 7) / 8 = (B.length + 7) / 8 by simp; omega]
theorem xor_bit : ∀ (x : Fin 256) (j : Fin 8), x.1 / 2 ^ (7 - j.1) % 2 = 1 → x.1 ^^^ 2 ^ (7 - j.1) = x.1 - 2 ^ (7 - j.1) := by decide +kernel
theorem getD_zero (B : List Nat) (m : Nat) : (B ++ [0]).getD m 1 = if m = B.length then 0 else B.getD m 1 := by
  rcases Nat.lt_trichotomy m B.length with h | h | h
  · rw [if_neg (by omega)]; simp [List.getD, List.getElem?_append_left h]
  · subst h; simp [List.getD]
  · rw [if_neg (by omega), List.getD, List.getElem?_eq_none (by simp; omega), List.getD, List.getElem?_eq_none (by omega)]
theorem byteAt_zero_other (B : List Nat) (k : Nat) (h : k ≠ B.length / 8) : byteAt (B ++ [0]) k = byteAt (B ++ [1]) k := by
  rw [byteAt_one]
  unfold byteAt
  simp only [getD_zero]
  rw [if_neg (by omega), if_neg (by omega), if_neg (by omega), if_neg (by omega), if_neg (by omega), if_neg (by omega), if_neg (by omega), if_neg (by omega)]
theorem byteAt_zero_last (B : List Nat) (hB : Bt B) : byteAt (B ++ [1]) (B.length / 8) ^^^ 2 ^ (7 - B.length % 8) = byteAt (B ++ [0]) (B.length / 8) := by
  have hlt : byteAt (B ++ [1]) (B.length / 8) < 256 := by rw [byteAt_one]; exact byteAt_lt hB _
  have g := fun i => getD_bt hB i 1 (Nat.le_refl _)
  have e1 : B.getD B.length 1 = 1 := by rw [List.getD, List.getElem?_eq_none (Nat.le_refl _)]; rfl
  have key : byteAt (B ++ [1]) (B.length / 8) / 2 ^ (7 - B.length % 8) % 2 = 1 ∧ byteAt (B ++ [0]) (B.length / 8) = byteAt (B ++ [1]) (B.length / 8) - 2 ^ (7 - B.length % 8) := by
    rw [byteAt_one]
    unfold byteAt
    simp only [getD_zero]
    obtain ⟨k, hk⟩ : ∃ k, k = B.length / 8 := ⟨_, rfl⟩
    rw [← hk]
    have h0 := g (8 * k)
    have h1 := g (8 * k + 1)
    have h2 := g (8 * k + 2)
    have h3 := g (8 * k + 3)
    have h4 := g (8 * k + 4)
    have h5 := g (8 * k + 5)
    have h6 := g (8 * k + 6)
    have h7 := g (8 * k + 7)
    rcases (show B.length % 8 = 0 ∨ B.length % 8 = 1 ∨ B.length % 8 = 2 ∨ B.length % 8 = 3 ∨ B.length % 8 = 4 ∨ B.length % 8 = 5 ∨ B.length % 8 = 6 ∨ B.length % 8 = 7 by omega) with r | r | r | r | r | r | r | r
    · rw [if_pos (show 8 * k = B.length by omega), if_neg (show ¬ 8 * k + 1 = B.length by omega), if_neg (show ¬ 8 * k + 2 = B.length by omega), if_neg (show ¬ 8 * k + 3 = B.length by omega), if_neg (show ¬ 8 * k + 4 = B.length by omega), if_neg (show ¬ 8 * k + 5 = B.length by omega), if_neg (show ¬ 8 * k + 6 = B.length by omega), if_neg (show ¬ 8 * k + 7 = B.length by omega), r]
      rw [show B.getD (8 * k) 1 = 1 by rw [show 8 * k = B.length by omega]; exact e1]
      omega
    · rw [if_neg (show ¬ 8 * k = B.length by omega), if_pos (show 8 * k + 1 = B.length by omega), if_neg (show ¬ 8 * k + 2 = B.length by omega), if_neg (show ¬ 8 * k + 3 = B.length by omega), if_neg (show ¬ 8 * k + 4 = B.length by omega), if_neg (show ¬ 8 * k + 5 = B.length by omega), if_neg (show ¬ 8 * k + 6 = B.length by omega), if_neg (show ¬ 8 * k + 7 = B.length by omega), r]
      rw [show B.getD (8 * k + 1) 1 = 1 by rw [show 8 * k + 1 = B.length by omega]; exact e1]
      omega
    · rw [if_neg (show ¬ 8 * k = B.length by omega), if_neg (show ¬ 8 * k + 1 = B.length by omega), if_pos (show 8 * k + 2 = B.length by omega), if_neg (show ¬ 8 * k + 3 = B.length by omega), if_neg (show ¬ 8 * k + 4 = B.length by omega), if_neg (show ¬ 8 * k + 5 = B.length by omega), if_neg (show ¬ 8 * k + 6 = B.length by omega), if_neg (show ¬ 8 * k + 7 = B.length by omega), r]
      rw [show B.getD (8 * k + 2) 1 = 1 by rw [show 8 * k + 2 = B.length by omega]; exact e1]
      omega
    · rw [if_neg (show ¬ 8 * k = B.length by omega), if_neg (show ¬ 8 * k + 1 = B.length by omega), if_neg (show ¬ 8 * k + 2 = B.length by omega), if_pos (show 8 * k + 3 = B.length by omega), if_neg (show ¬ 8 * k + 4 = B.length by omega), if_neg (show ¬ 8 * k + 5 = B.length by omega), if_neg (show ¬ 8 * k + 6 = B.length by omega), if_neg (show ¬ 8 * k + 7 = B.length by omega), r]
      rw [show B.getD (8 * k + 3) 1 = 1 by rw [show 8 * k + 3 = B.length by omega]; exact e1]
      omega
    · rw [if_neg (show ¬ 8 * k = B.length by omega), if_neg (show ¬ 8 * k + 1 = B.length by omega), if_neg (show ¬ 8 * k + 2 = B.length by omega), if_neg (show ¬ 8 * k + 3 = B.length by omega), if_pos (show 8 * k + 4 = B.length by omega), if_neg (show ¬ 8 * k + 5 = B.length by omega), if_neg (show ¬ 8 * k + 6 = B.length by omega), if_neg (show ¬ 8 * k + 7 = B.length by omega), r]
      rw [show B.getD (8 * k + 4) 1 = 1 by rw [show 8 * k + 4 = B.length by omega]; exact e1]
      omega
    · rw [if_neg (show ¬ 8 * k = B.length by omega), if_neg (show ¬ 8 * k + 1 = B.length by omega), if_neg (show ¬ 8 * k + 2 = B.length by omega), if_neg (show ¬ 8 * k + 3 = B.length by omega), if_neg (show ¬ 8 * k + 4 = B.length by omega), if_pos (show 8 * k + 5 = B.length by omega), if_neg (show ¬ 8 * k + 6 = B.length by omega), if_neg (show ¬ 8 * k + 7 = B.length by omega), r]
      rw [show B.getD (8 * k + 5) 1 = 1 by rw [show 8 * k + 5 = B.length by omega]; exact e1]
      omega
    · rw [if_neg (show ¬ 8 * k = B.length by omega), if_neg (show ¬ 8 * k + 1 = B.length by omega), if_neg (show ¬ 8 * k + 2 = B.length by omega), if_neg (show ¬ 8 * k + 3 = B.length by omega), if_neg (show ¬ 8 * k + 4 = B.length by omega), if_neg (show ¬ 8 * k + 5 = B.length by omega), if_pos (show 8 * k + 6 = B.length by omega), if_neg (show ¬ 8 * k + 7 = B.length by omega), r]
      rw [show B.getD (8 * k + 6) 1 = 1 by rw [show 8 * k + 6 = B.length by omega]; exact e1]
      omega
    · rw [if_neg (show ¬ 8 * k = B.length by omega), if_neg (show ¬ 8 * k + 1 = B.length by omega), if_neg (show ¬ 8 * k + 2 = B.length by omega), if_neg (show ¬ 8 * k + 3 = B.length by omega), if_neg (show ¬ 8 * k + 4 = B.length by omega), if_neg (show ¬ 8 * k + 5 = B.length by omega), if_neg (show ¬ 8 * k + 6 = B.length by omega), if_pos (show 8 * k + 7 = B.length by omega), r]
      rw [show B.getD (8 * k + 7) 1 = 1 by rw [show 8 * k + 7 = B.length by omega]; exact e1]
      omega
  have := xor_bit ⟨_, hlt⟩ ⟨B.length % 8, Nat.mod_lt _ (by omega)⟩ key.1
  rw [key.2]
  exact this
/-- A nought more: the last byte's bit is turned. -/
theorem pack_zero (B : List Nat) (hB : Bt B) : pack (B ++ [0]) = (pack (B ++ [1])).set (B.length / 8) (byteAt (B ++ [1]) (B.length / 8) ^^^ 2 ^ (7 - B.length % 8)) := by
  apply List.ext_getElem
  · simp [pack]
  · intro k h1 h2
    rw [List.getElem_set]
    simp only [pack, List.getElem_map, List.getElem_range]
    split
    · rename_i h
      subst h
      exact (byteAt_zero_last B hB).symm
    · rename_i h
      exact byteAt_zero_other B k (fun e => h e.symm)
/-- The bits of bytes, the greatest bit of each first. -/
def unp (b : List Nat) : List Nat := (List.range (8 * b.length)).map fun a => b.getD (a / 8) 0 / 2 ^ (7 - a % 8) % 2
theorem unp_len (b : List Nat) : (unp b).length = 8 * b.length := by simp [unp]
theorem unp_bt (b : List Nat) : Bt (unp b) := by
  intro x hx
  simp only [unp, List.mem_map] at hx
  obtain ⟨k, _, rfl⟩ := hx
  omega
end Go.Proofs.YtpoffmnaoohkpaaDoor.Hf
