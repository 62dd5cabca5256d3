/- Reading Huffman's code bit by bit: what is found, what is left; Decode of Encode; padding. Nothing of the program is named here. -/
import Derived.Test.YtiandidencnlcaaDoorHBits
namespace Go.Proofs.YtiandidencnlcaaDoor.Hf

/-- The last of the first i that has this code of this length. -/
def fnd (w l : Nat) : Nat → Option Nat
  | 0 => none
  | i + 1 => if ln i = l ∧ cd i = w then some i else fnd w l i
/-- What is read of bits: the bytes, and what went wrong (2: form, 3: long). -/
def run (most : Int) : List Nat → Nat → Nat → List Nat → List Nat × Nat
  | [], w, l, out => if 7 < l ∨ w ≠ 2 ^ l - 1 then ([], 2) else (out, 0)
  | b :: r, w, l, out =>
    match fnd (w * 2 % 4294967296 + b) (l + 1) 257 with
    | none => run most r (w * 2 % 4294967296 + b) (l + 1) out
    | some i => if i = 256 then ([], 2) else if most ≤ (out.length : Int) then ([], 3) else run most r 0 0 (out ++ [i])
theorem run_none {most : Int} {b w l : Nat} {r out : List Nat} (h : fnd (w * 2 % 4294967296 + b) (l + 1) 257 = none) : run most (b :: r) w l out = run most r (w * 2 % 4294967296 + b) (l + 1) out := by
  rw [run, h]
theorem run_some {most : Int} {b w l i : Nat} {r out : List Nat} (h : fnd (w * 2 % 4294967296 + b) (l + 1) 257 = some i) :
    run most (b :: r) w l out = if i = 256 then ([], 2) else if most ≤ (out.length : Int) then ([], 3) else run most r 0 0 (out ++ [i]) := by
  rw [run, h]
/-- Decode over bytes. -/
def dec (b : List Nat) (most : Int) : List Nat × Nat := run most (unp b) 0 0 []
def enc (b : List Nat) : List Nat := pack (eBits b)

set_option maxRecDepth 100000 in
theorem tab_lim : ∀ i : Fin 257, cd i.1 < lims.getD (ln i.1) 0 ∧ 5 ≤ ln i.1 ∧ ln i.1 ≤ 30 ∧ cd i.1 < 2 ^ ln i.1 := by decide +kernel
set_option maxRecDepth 100000 in
theorem tab_pre : ∀ i : Fin 257, ∀ k : Fin 30, k.1 < ln i.1 → lims.getD k.1 0 ≤ cd i.1 / 2 ^ (ln i.1 - k.1) := by decide +kernel
set_option maxRecDepth 100000 in
theorem tab_one : (lens.zip cods).Nodup := by decide +kernel
theorem ones_lim : ∀ k : Fin 30, lims.getD k.1 0 ≤ 2 ^ k.1 - 1 := by decide +kernel
theorem end_code : ln 256 = 30 ∧ cd 256 = 2 ^ 30 - 1 := by decide +kernel

theorem uniq {i j : Nat} (hi : i < 257) (hj : j < 257) (h1 : ln i = ln j) (h2 : cd i = cd j) : i = j := by
  have hl : (lens.zip cods).length = 257 := by rw [List.length_zip, lens_len, cods_len]; rfl
  have e : ∀ k (hk : k < 257), (lens.zip cods)[k]'(by omega) = (ln k, cd k) := fun k hk => by
    have a1 : k < lens.length := by rw [lens_len]; exact hk
    have a2 : k < cods.length := by rw [cods_len]; exact hk
    rw [List.getElem_zip, ln, cd, List.getD, List.getD, List.getElem?_eq_getElem a1, List.getElem?_eq_getElem a2]
    rfl
  have hn := List.nodup_iff_pairwise_ne.1 tab_one
  rcases Nat.lt_trichotomy i j with h | h | h
  · have := List.pairwise_iff_getElem.1 hn i j (by omega) (by omega) h
    rw [e i hi, e j hj, h1, h2] at this
    exact absurd rfl this
  · exact h
  · have := List.pairwise_iff_getElem.1 hn j i (by omega) (by omega) h
    rw [e i hi, e j hj, h1, h2] at this
    exact absurd rfl this
theorem fnd_spec (w l : Nat) : ∀ n, (∀ i, fnd w l n = some i → i < n ∧ ln i = l ∧ cd i = w) ∧ (fnd w l n = none → ∀ i, i < n → ¬ (ln i = l ∧ cd i = w))
  | 0 => ⟨fun i h => by simp [fnd] at h, fun _ i h => by omega⟩
  | n + 1 => by
    have ih := fnd_spec w l n
    rw [fnd]
    split
    · rename_i h
      exact ⟨fun i e => by injection e with e; subst e; exact ⟨by omega, h⟩, fun e => by cases e⟩
    · rename_i h
      refine ⟨fun i e => ⟨by have := (ih.1 i e).1; omega, (ih.1 i e).2⟩, fun e i hi => ?_⟩
      rcases Nat.lt_or_ge i n with h' | h'
      · exact ih.2 e i h'
      · rw [show i = n by omega]
        exact h
theorem fnd_code (i : Nat) (hi : i < 257) : fnd (cd i) (ln i) 257 = some i := by
  cases h : fnd (cd i) (ln i) 257 with
  | none => exact absurd ⟨rfl, rfl⟩ ((fnd_spec _ _ 257).2 h i hi)
  | some j =>
    obtain ⟨h1, h2, h3⟩ := (fnd_spec _ _ 257).1 j h
    rw [uniq h1 hi h2 h3]
theorem fnd_above (w l : Nat) (h : lims.getD l 0 ≤ w) : fnd w l 257 = none := by
  cases hf : fnd w l 257 with
  | none => rfl
  | some j =>
    obtain ⟨h1, h2, h3⟩ := (fnd_spec _ _ 257).1 j hf
    have := (tab_lim ⟨j, h1⟩).1
    simp only at this
    rw [h2, h3] at this
    omega
/-- The code of i, read from its k-th bit on. -/
theorem run_code (most : Int) (i : Nat) (hi : i < 257) (r out : List Nat) : ∀ d k, k + d = ln i → 0 < d →
    run most ((bOf i).drop k ++ r) (cd i / 2 ^ (ln i - k)) k out = if i = 256 then ([], 2) else if most ≤ (out.length : Int) then ([], 3) else run most r 0 0 (out ++ [i])
  | 0, _, _, h => absurd h (by omega)
  | d + 1, k, hk, _ => by
    have ht := tab_lim ⟨i, hi⟩
    simp only at ht
    have hkl : k < (bOf i).length := by rw [bOf_len]; omega
    have hb : (bOf i)[k] = cd i / 2 ^ (ln i - 1 - k) % 2 := by simp [bOf]
    have hp : 2 ^ (ln i - k) = 2 ^ (ln i - 1 - k) * 2 := by rw [← Nat.pow_succ]; congr 1; omega
    have hw : cd i / 2 ^ (ln i - k) * 2 + cd i / 2 ^ (ln i - 1 - k) % 2 = cd i / 2 ^ (ln i - (k + 1)) := by
      rw [hp, ← Nat.div_div_eq_div_mul, show ln i - (k + 1) = ln i - 1 - k by omega]
      omega
    have hlt : cd i / 2 ^ (ln i - k) * 2 < 4294967296 := by
      have h30 : cd i < 2 ^ 30 := Nat.lt_of_lt_of_le ht.2.2.2 (Nat.pow_le_pow_right (by decide) ht.2.2.1)
      have : cd i / 2 ^ (ln i - k) ≤ cd i := Nat.div_le_self _ _
      have e30 : (2 : Nat) ^ 30 = 1073741824 := by decide
      omega
    rw [List.drop_eq_getElem_cons hkl, hb, List.cons_append]
    have hst : cd i / 2 ^ (ln i - k) * 2 % 4294967296 + cd i / 2 ^ (ln i - 1 - k) % 2 = cd i / 2 ^ (ln i - (k + 1)) := by rw [Nat.mod_eq_of_lt hlt, hw]
    rcases Nat.eq_zero_or_pos d with hd | hd
    · subst hd
      have e0 : ln i - (k + 1) = 0 := by omega
      rw [e0, Nat.pow_zero, Nat.div_one] at hst
      rw [run_some (by rw [hst, show k + 1 = ln i by omega]; exact fnd_code i hi), List.drop_of_length_le (by rw [bOf_len]; omega), List.nil_append]
    · rw [run_none (by rw [hst]; exact fnd_above _ _ (tab_pre ⟨i, hi⟩ ⟨k + 1, by omega⟩ (by simp only; omega))), hst]
      exact run_code most i hi r out d (k + 1) (by omega) hd
theorem run_byte (most : Int) (i : Nat) (hi : i < 256) (r out : List Nat) : run most (bOf i ++ r) 0 0 out = if most ≤ (out.length : Int) then ([], 3) else run most r 0 0 (out ++ [i]) := by
  have ht := tab_lim ⟨i, by omega⟩
  simp only at ht
  have h := run_code most i (by omega) r out (ln i) 0 (by omega) (by omega)
  rw [List.drop_zero, Nat.sub_zero, Nat.div_eq_of_lt ht.2.2.2, if_neg (by omega)] at h
  exact h
/-- Ones, from the k-th on: nothing is found below thirty. -/
theorem run_ones (most : Int) (r out : List Nat) : ∀ d k, k + d < 30 → run most (List.replicate d 1 ++ r) (2 ^ k - 1) k out = run most r (2 ^ (k + d) - 1) (k + d) out
  | 0, k, _ => by simp
  | d + 1, k, h => by
    have hp : 2 ^ (k + 1) = 2 ^ k * 2 := Nat.pow_succ ..
    have h1 : 1 ≤ 2 ^ k := Nat.one_le_two_pow
    have h30 : 2 ^ k ≤ 2 ^ 29 := Nat.pow_le_pow_right (by decide) (by omega)
    have e29 : (2 : Nat) ^ 29 = 536870912 := by decide
    have hst : (2 ^ k - 1) * 2 % 4294967296 + 1 = 2 ^ (k + 1) - 1 := by rw [Nat.mod_eq_of_lt (by omega)]; omega
    rw [List.replicate_succ, List.cons_append, run_none (by rw [hst]; exact fnd_above _ _ (ones_lim ⟨k + 1, by omega⟩)), hst, run_ones most r out d (k + 1) (by omega), show k + 1 + d = k + (d + 1) by omega]
/-- Thirty ones are the end's code. -/
theorem run_end (most : Int) (r out : List Nat) : run most (List.replicate 30 1 ++ r) 0 0 out = ([], 2) := by
  have h := run_ones most ([1] ++ r) out 29 0 (by omega)
  rw [← List.append_assoc, ← List.replicate_succ'] at h
  rw [show (2 : Nat) ^ 0 - 1 = 0 from rfl] at h
  rw [h, List.cons_append, List.nil_append, run_some (i := 256) ?_, if_pos rfl]
  have := fnd_code 256 (by omega)
  rw [end_code.1, end_code.2] at this
  exact this
theorem run_pad (most : Int) (out : List Nat) (k : Nat) (h : k ≤ 7) : run most (List.replicate k 1) 0 0 out = (out, 0) := by
  have := run_ones most [] out k 0 (by omega)
  rw [List.append_nil, show (2 : Nat) ^ 0 - 1 = 0 from rfl, Nat.zero_add] at this
  rw [this, run, if_neg (by omega)]
theorem run_many (most : Int) (out : List Nat) (k : Nat) (h : 8 ≤ k) (h' : k < 30) : run most (List.replicate k 1) 0 0 out = ([], 2) := by
  have := run_ones most [] out k 0 (by omega)
  rw [List.append_nil, show (2 : Nat) ^ 0 - 1 = 0 from rfl, Nat.zero_add] at this
  rw [this, run, if_pos (Or.inl (by omega))]
/-- The codes of bytes, then r. -/
theorem run_all (most : Int) (r : List Nat) : ∀ (b out : List Nat), (∀ x ∈ b, x < 256) → (out.length + b.length : Nat) ≤ most → run most (eBits b ++ r) 0 0 out = run most r 0 0 (out ++ b)
  | [], out, _, _ => by simp [eBits]
  | x :: b, out, hb, hm => by
    rw [eBits, List.append_assoc, run_byte most x (hb x (by simp)), if_neg (by simp at hm; omega), run_all most r b (out ++ [x]) (fun y hy => hb y (by simp [hy])) (by simp at hm ⊢; omega), List.append_assoc]
    rfl
/-- Too many. -/
theorem run_long (most : Int) (r : List Nat) : ∀ (b out : List Nat), (∀ x ∈ b, x < 256) → most < (out.length + b.length : Nat) → 0 < b.length → run most (eBits b ++ r) 0 0 out = ([], 3)
  | [], _, _, _, h => absurd h (by simp)
  | x :: b, out, hb, hm, _ => by
    rw [eBits, List.append_assoc, run_byte most x (hb x (by simp))]
    split
    · rfl
    · rename_i hlt
      have hne : 0 < b.length := by simp at hm; omega
      exact run_long most r b (out ++ [x]) (fun y hy => hb y (by simp [hy])) (by simp at hm ⊢; omega) hne
theorem byteAt_bit {B : List Nat} (hB : Bt B) (a : Nat) : byteAt B (a / 8) / 2 ^ (7 - a % 8) % 2 = B.getD a 1 := by
  have g := fun i => getD_bt hB i 1 (Nat.le_refl _)
  obtain ⟨k, hk⟩ : ∃ k, k = a / 8 := ⟨_, rfl⟩
  rw [← hk]
  have h0 := g (8 * k)
  have h1 := g (8 * k + 1)
  have h2 := g (8 * k + 2)
  have h3 := g (8 * k + 3)
  have h4 := g (8 * k + 4)
  have h5 := g (8 * k + 5)
  have h6 := g (8 * k + 6)
  have h7 := g (8 * k + 7)
  unfold byteAt
  rcases (show a % 8 = 0 ∨ a % 8 = 1 ∨ a % 8 = 2 ∨ a % 8 = 3 ∨ a % 8 = 4 ∨ a % 8 = 5 ∨ a % 8 = 6 ∨ a % 8 = 7 by omega) with r | r | r | r | r | r | r | r
  · rw [r, show a = 8 * k by omega]; omega
  · rw [r, show a = 8 * k + 1 by omega]; omega
  · rw [r, show a = 8 * k + 2 by omega]; omega
  · rw [r, show a = 8 * k + 3 by omega]; omega
  · rw [r, show a = 8 * k + 4 by omega]; omega
  · rw [r, show a = 8 * k + 5 by omega]; omega
  · rw [r, show a = 8 * k + 6 by omega]; omega
  · rw [r, show a = 8 * k + 7 by omega]; omega
/-- How many ones stand behind so many bits. -/
def padN (n : Nat) : Nat := 8 * ((n + 7) / 8) - n
theorem unp_pack {B : List Nat} (hB : Bt B) : unp (pack B) = B ++ List.replicate (padN B.length) 1 := by
  apply List.ext_getElem
  · rw [unp_len, pack_len, List.length_append, List.length_replicate, padN]; omega
  · intro a h1 h2
    have ha : a / 8 < (B.length + 7) / 8 := by rw [unp_len, pack_len] at h1; omega
    have e : (pack B).getD (a / 8) 0 = byteAt B (a / 8) := by
      rw [List.getD, List.getElem?_eq_getElem (by rw [pack_len]; exact ha)]
      simp [pack]
    simp only [unp, List.getElem_map, List.getElem_range]
    rw [e, byteAt_bit hB]
    rcases Nat.lt_or_ge a B.length with h | h
    · rw [List.getElem_append_left h, List.getD, List.getElem?_eq_getElem h]
      rfl
    · rw [List.getElem_append_right h, List.getElem_replicate, List.getD, List.getElem?_eq_none h]
      rfl
theorem unp_app (a b : List Nat) : unp (a ++ b) = unp a ++ unp b := by
  apply List.ext_getElem
  · simp [unp_len]; omega
  · intro k h1 h2
    simp only [unp, List.getElem_map, List.getElem_range]
    rcases Nat.lt_or_ge k (8 * a.length) with h | h
    · rw [List.getElem_append_left (by simpa using h)]
      simp only [List.getElem_map, List.getElem_range]
      congr 2
      rw [List.getD, List.getD, List.getElem?_append_left (by omega)]
    · rw [List.getElem_append_right (by simpa using h)]
      simp only [List.getElem_map, List.getElem_range, List.length_map, List.length_range]
      rw [show (k - 8 * a.length) % 8 = k % 8 by omega]
      congr 2
      rw [List.getD, List.getD, List.getElem?_append_right (by omega), show k / 8 - a.length = (k - 8 * a.length) / 8 by omega]
theorem unp_ones (n : Nat) : unp (List.replicate n 255) = List.replicate (8 * n) 1 := by
  apply List.ext_getElem
  · simp [unp_len]
  · intro k h1 h2
    have hk : k / 8 < n := by simp [unp_len] at h1; omega
    simp only [unp, List.getElem_map, List.getElem_range, List.getElem_replicate]
    rw [List.getD, List.getElem?_replicate, if_pos hk]
    simp only [Option.getD_some]
    rcases (show k % 8 = 0 ∨ k % 8 = 1 ∨ k % 8 = 2 ∨ k % 8 = 3 ∨ k % 8 = 4 ∨ k % 8 = 5 ∨ k % 8 = 6 ∨ k % 8 = 7 by omega) with r | r | r | r | r | r | r | r <;> rw [r]
theorem padN_le (n : Nat) : padN n ≤ 7 := by unfold padN; omega
/-- P4.4. -/
theorem dec_enc (b : List Nat) (most : Int) (hb : ∀ x ∈ b, x < 256) (hm : (b.length : Int) ≤ most) : dec (enc b) most = (b, 0) := by
  rw [dec, enc, unp_pack (eBits_bt b), run_all most _ b [] hb (by simpa using hm), List.nil_append, run_pad _ _ _ (padN_le _)]
theorem dec_enc_long (b : List Nat) (most : Int) (hb : ∀ x ∈ b, x < 256) (hm : most < (b.length : Int)) (h0 : 0 < b.length) : dec (enc b) most = ([], 3) := by
  rw [dec, enc, unp_pack (eBits_bt b)]
  exact run_long most _ b [] hb (by simpa using hm) h0
theorem enc_len (b : List Nat) : (enc b).length = (nBits b + 7) / 8 := by rw [enc, pack_len, eBits_len]
end Go.Proofs.YtiandidencnlcaaDoor.Hf
