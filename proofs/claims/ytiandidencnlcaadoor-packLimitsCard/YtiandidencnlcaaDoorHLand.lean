/- The landed code's tables over plain numbers: bytes in the order of their codes, how many codes of each length. Nothing of the program is named here. -/
import Derived.Test.YtiandidencnlcaaDoorHRead
namespace Go.Proofs.YtiandidencnlcaaDoor.Hf

/-- The bytes in the order of their codes. -/
def byc : List Nat := [48, 49, 50, 97, 99, 101, 105, 111, 115, 116, 32, 37, 45, 46, 47, 51, 52, 53, 54, 55, 56, 57, 61, 65, 95, 98, 100, 102, 103, 104, 108, 109, 110, 112, 114, 117, 58, 66, 67, 68, 69, 70, 71, 72, 73, 74, 75, 76, 77, 78, 79, 80, 81, 82, 83, 84, 85, 86, 87, 89, 106, 107, 113, 118, 119, 120, 121, 122, 38, 42, 44, 59, 88, 90, 33, 34, 40, 41, 63, 39, 43, 124, 35, 62, 0, 36, 64, 91, 93, 126, 94, 125, 60, 96, 123, 92, 195, 208, 128, 130, 131, 162, 184, 194, 224, 226, 153, 161, 167, 172, 176, 177, 179, 209, 216, 217, 227, 229, 230, 129, 132, 133, 134, 136, 146, 154, 156, 160, 163, 164, 169, 170, 173, 178, 181, 185, 186, 187, 189, 190, 196, 198, 228, 232, 233, 1, 135, 137, 138, 139, 140, 141, 143, 147, 149, 150, 151, 152, 155, 157, 158, 165, 166, 168, 174, 175, 180, 182, 183, 188, 191, 197, 231, 239, 9, 142, 144, 145, 148, 159, 171, 206, 215, 225, 236, 237, 199, 207, 234, 235, 192, 193, 200, 201, 202, 205, 210, 213, 218, 219, 238, 240, 242, 243, 255, 203, 204, 211, 212, 214, 221, 222, 223, 241, 244, 245, 246, 247, 248, 250, 251, 252, 253, 254, 2, 3, 4, 5, 6, 7, 8, 11, 12, 14, 15, 16, 17, 18, 19, 20, 21, 23, 24, 25, 26, 27, 28, 29, 30, 31, 127, 220, 249, 10, 13, 22]
/-- How many codes have so many bits. -/
def cnt : List Nat := [0, 0, 0, 0, 0, 10, 26, 32, 6, 0, 5, 3, 2, 6, 2, 3, 0, 0, 0, 3, 8, 13, 26, 29, 12, 4, 15, 19, 29, 0, 3]
/-- How many have so many bits or fewer. -/
def shs : List Nat := [0, 0, 0, 0, 0, 10, 36, 68, 74, 74, 79, 82, 84, 90, 92, 95, 95, 95, 95, 98, 106, 119, 145, 174, 186, 190, 205, 224, 253, 253, 256]
theorem cnt_len : cnt.length = 31 := by decide +kernel
theorem byc_len : byc.length = 256 := by decide +kernel
abbrev ct (i : Nat) : Nat := cnt.getD i 0
abbrev sh (i : Nat) : Nat := shs.getD i 0
abbrev lm (i : Nat) : Nat := lims.getD i 0
/-- Code's loop: n rounds at most, the first code f of l bits, the place p behind it. -/
def cst : Nat → Nat → Nat → Nat → Option (Nat × Nat)
  | 0, _, _, _ => none
  | n + 1, f, l, p => if ct (l + 1) ≤ p then cst n (2 * f + ct (l + 1)) (l + 1) (p - ct (l + 1)) else some (2 * f + p, l + 1)
def plc (x : Nat) : Nat := byc.idxOf x
set_option maxRecDepth 100000 in
theorem cst_all : ∀ x : Fin 256, cst 30 0 0 (plc x.1) = some (cd x.1, ln x.1) ∧ plc x.1 < 256 := by decide +kernel
set_option maxRecDepth 100000 in
theorem ct_le : ∀ l : Fin 31, ct l.1 ≤ 32 ∧ sh l.1 ≤ 256 := by decide +kernel
/- A code of L + 1 bits: at its place among them stands its byte. -/
set_option maxRecDepth 100000 in
theorem find_all : ∀ L : Fin 30, ∀ F : Fin 32, F.1 < ct (L.1 + 1) → sh L.1 + F.1 < 256 ∧ byc.getD (sh L.1 + F.1) 0 < 256 ∧ ln (byc.getD (sh L.1 + F.1) 0) = L.1 + 1 ∧ cd (byc.getD (sh L.1 + F.1) 0) = 2 * lm L.1 + F.1 := by decide +kernel
set_option maxRecDepth 100000 in
theorem next_all : ∀ L : Fin 29, sh (L.1 + 1) = sh L.1 + ct (L.1 + 1) ∧ lm (L.1 + 1) = 2 * lm L.1 + ct (L.1 + 1) := by decide +kernel
theorem last_all : sh 0 = 0 ∧ lm 0 = 0 ∧ ct 30 = 3 ∧ 2 * lm 29 + 3 = 2 ^ 30 - 1 := by decide +kernel
/-- What is found. -/
theorem found_in {L F : Nat} (hL : L < 30) (hF : F < ct (L + 1)) : fnd (2 * lm L + F) (L + 1) 257 = some (byc.getD (sh L + F) 0) ∧ byc.getD (sh L + F) 0 < 256 ∧ sh L + F < 256 := by
  have h32 := (ct_le ⟨L + 1, by omega⟩).1
  simp only at h32
  have h := find_all ⟨L, hL⟩ ⟨F, by omega⟩ hF
  simp only at h
  refine ⟨?_, h.2.1, h.1⟩
  rw [← h.2.2.2, ← h.2.2.1]
  exact fnd_code _ (by omega)
theorem found_not {L F : Nat} (hL : L < 29) (hF : ct (L + 1) ≤ F) : fnd (2 * lm L + F) (L + 1) 257 = none := by
  have h := (next_all ⟨L, hL⟩).2
  simp only at h
  exact fnd_above _ _ (by show lm (L + 1) ≤ _; omega)
theorem found_end {F : Nat} (hF : 3 ≤ F) (h : 2 * lm 29 + F < 2 ^ 30) : fnd (2 * lm 29 + F) 30 257 = some 256 := by
  have h3 := last_all.2.2.2
  have e : 2 * lm 29 + F = cd 256 := by rw [end_code.2]; omega
  rw [e, ← end_code.1]
  exact fnd_code 256 (by omega)
/-- The number that bits stand for. -/
def val (B : List Nat) : Nat := B.foldl (fun s b => 2 * s + b) 0
theorem val_snoc (B : List Nat) (b : Nat) : val (B ++ [b]) = 2 * val B + b := by simp [val]
theorem val_app (A : List Nat) : ∀ (n : Nat) (B : List Nat), B.length = n → val (A ++ B) = val A * 2 ^ n + val B
  | 0, B, h => by
    have : B = [] := List.eq_nil_of_length_eq_zero h
    subst this
    simp [val]
  | n + 1, B, h => by
    obtain ⟨C, b, rfl⟩ : ∃ C b, B = C ++ [b] := ⟨B.dropLast, B.getLast (by rintro rfl; simp at h), (List.dropLast_concat_getLast _).symm⟩
    have hC : C.length = n := by simpa using h
    rw [← List.append_assoc, val_snoc, val_snoc, val_app A n C hC, Nat.pow_succ]
    generalize 2 ^ n = q
    rw [Nat.mul_add, Nat.add_assoc, show 2 * (val A * q) = val A * (q * 2) by rw [Nat.mul_left_comm, Nat.mul_comm 2 q]]
theorem val_lt : ∀ (n : Nat) (B : List Nat), B.length = n → Bt B → val B < 2 ^ n
  | 0, B, h, _ => by
    have : B = [] := List.eq_nil_of_length_eq_zero h
    subst this
    simp [val]
  | n + 1, B, h, hb => by
    obtain ⟨C, b, rfl⟩ : ∃ C b, B = C ++ [b] := ⟨B.dropLast, B.getLast (by rintro rfl; simp at h), (List.dropLast_concat_getLast _).symm⟩
    have hC : C.length = n := by simpa using h
    have h1 := val_lt n C hC (fun x hx => hb x (by simp [hx]))
    have h2 := hb b (by simp)
    rw [val_snoc, Nat.pow_succ]
    omega
theorem val_ones : ∀ n, val (List.replicate n 1) = 2 ^ n - 1
  | 0 => rfl
  | n + 1 => by
    rw [List.replicate_succ', val_snoc, val_ones n, Nat.pow_succ]
    have : 1 ≤ 2 ^ n := Nat.one_le_two_pow
    omega
/-- A code's bits stand for the code. -/
theorem val_code (x : Nat) (hx : x < 257) : val (bOf x) = cd x := by
  have ht := (tab_lim ⟨x, hx⟩).2.2.2
  simp only at ht
  have key : ∀ j, j ≤ ln x → val ((bOf x).take j) = cd x / 2 ^ (ln x - j) := by
    intro j
    induction j with
    | zero => intro _; rw [List.take_zero, Nat.sub_zero, Nat.div_eq_of_lt ht]; rfl
    | succ j ih =>
      intro hj
      have hjl : j < (bOf x).length := by rw [bOf_len]; omega
      have hb : (bOf x)[j] = cd x / 2 ^ (ln x - 1 - j) % 2 := by simp [bOf]
      rw [List.take_succ_eq_append_getElem hjl, val_snoc, ih (by omega), hb]
      have hp : 2 ^ (ln x - j) = 2 ^ (ln x - 1 - j) * 2 := by rw [← Nat.pow_succ]; congr 1; omega
      rw [hp, ← Nat.div_div_eq_div_mul, show ln x - (j + 1) = ln x - 1 - j by omega]
      omega
  have := key (ln x) (Nat.le_refl _)
  rw [List.take_of_length_le (by rw [bOf_len]; omega), Nat.sub_self, Nat.pow_zero, Nat.div_one] at this
  exact this
/-- The k-th byte is the number of the next eight bits, ones where there is none. -/
theorem byteAt_val (B : List Nat) (k : Nat) : byteAt B k = val ((B.drop (8 * k) ++ List.replicate 8 1).take 8) := by
  have e : (B.drop (8 * k) ++ List.replicate 8 1).take 8 = (List.range 8).map fun j => B.getD (8 * k + j) 1 := by
    apply List.ext_getElem
    · simp
    · intro j h1 h2
      have hj : j < 8 := by simpa using h2
      rw [List.getElem_take, List.getElem_map, List.getElem_range]
      rcases Nat.lt_or_ge (8 * k + j) B.length with h | h
      · rw [List.getElem_append_left (by simp; omega), List.getElem_drop, List.getD, List.getElem?_eq_getElem h]
        rfl
      · rw [List.getElem_append_right (by simp; omega), List.getElem_replicate, List.getD, List.getElem?_eq_none h]
        rfl
  rw [e]
  simp only [show List.range 8 = [0, 1, 2, 3, 4, 5, 6, 7] from rfl, List.map_cons, List.map_nil, val, List.foldl_cons, List.foldl_nil, byteAt, Nat.add_zero]
  omega
theorem byteAt_whole (B : List Nat) (k : Nat) (h : 8 * k + 8 ≤ B.length) : byteAt B k = val ((B.drop (8 * k)).take 8) := by
  rw [byteAt_val, List.take_append_of_le_length (by simp; omega)]
theorem byteAt_part (B : List Nat) (k r : Nat) (hr : r < 8) (h : B.length = 8 * k + r) : byteAt B k = val (B.drop (8 * k)) * 2 ^ (8 - r) + (2 ^ (8 - r) - 1) := by
  have hd : (B.drop (8 * k)).length = r := by simp; omega
  rw [byteAt_val, List.take_append, hd, List.take_of_length_le (by omega), List.take_replicate, show min (8 - r) 8 = 8 - r by omega, val_app _ (8 - r) _ (by simp), val_ones]
/-- The first c whole bytes. -/
def full (B : List Nat) (c : Nat) : List Nat := (List.range c).map (byteAt B)
theorem full_len (B : List Nat) (c : Nat) : (full B c).length = c := by simp [full]
theorem full_next (B : List Nat) (c : Nat) : full B (c + 1) = full B c ++ [byteAt B c] := by simp [full, List.range_succ]
theorem full_pack (B : List Nat) : pack B = full B ((B.length + 7) / 8) := rfl
theorem full_app (B Z : List Nat) (c : Nat) (h : 8 * c ≤ B.length) : full (B ++ Z) c = full B c := by
  unfold full
  apply List.map_congr_left
  intro k hk
  have hk : k < c := List.mem_range.1 hk
  rw [byteAt_whole _ k (by simp; omega), byteAt_whole _ k (by omega), List.drop_append_of_le_length (by omega), List.take_append_of_le_length (by simp; omega)]
/-- What is held: the bits behind the first c bytes. -/
def hld (B : List Nat) (c : Nat) : Nat := val (B.drop (8 * c))
theorem hld_app (B : List Nat) (x c : Nat) (hx : x < 257) (h : 8 * c ≤ B.length) : hld (B ++ bOf x) c = hld B c * 2 ^ ln x + cd x := by
  unfold hld
  rw [List.drop_append_of_le_length h, val_app _ (ln x) _ (bOf_len x), val_code x hx]
theorem hld_lt {B : List Nat} (hB : Bt B) (c : Nat) : hld B c < 2 ^ (B.length - 8 * c) := val_lt _ _ (by simp) (fun x hx => hB x (List.mem_of_mem_drop hx))
theorem hld_next {B : List Nat} (hB : Bt B) (c d : Nat) (h : B.length = 8 * c + 8 + d) : hld B c / 2 ^ d = byteAt B c ∧ hld B c % 2 ^ d = hld B (c + 1) := by
  have e : B.drop (8 * c) = (B.drop (8 * c)).take 8 ++ B.drop (8 * (c + 1)) := by
    have := (List.take_append_drop 8 (B.drop (8 * c))).symm
    rw [List.drop_drop] at this
    exact this
  have hl : (B.drop (8 * (c + 1))).length = d := by simp; omega
  have hlt := hld_lt hB (c + 1)
  rw [show B.length - 8 * (c + 1) = d by omega] at hlt
  have hv : hld B c = byteAt B c * 2 ^ d + hld B (c + 1) := by
    unfold hld
    rw [byteAt_whole B c (by omega)]
    conv => lhs; rw [e]
    exact val_app _ d _ hl
  have hp : 0 < 2 ^ d := Nat.pow_pos (by omega)
  rw [hv]
  constructor
  · rw [Nat.mul_comm, Nat.mul_add_div hp, Nat.div_eq_of_lt hlt, Nat.add_zero]
  · rw [Nat.mul_comm, Nat.mul_add_mod, Nat.mod_eq_of_lt hlt]
end Go.Proofs.YtiandidencnlcaaDoor.Hf
