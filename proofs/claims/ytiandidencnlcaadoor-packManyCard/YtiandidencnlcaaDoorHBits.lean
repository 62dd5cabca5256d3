/- Huffman's code of RFC 7541 over plain numbers: the table, bits, packing, reading. Nothing of the program is named here. -/
namespace Go.Proofs.YtiandidencnlcaaDoor.Hf

/-- How many bits the codes have: of the 256 bytes, and of the end. -/
def lens : List Nat := [13, 23, 28, 28, 28, 28, 28, 28, 28, 24, 30, 28, 28, 30, 28, 28, 28, 28, 28, 28, 28, 28, 30, 28, 28, 28, 28, 28, 28, 28, 28, 28, 6, 10, 10, 12, 13, 6, 8, 11, 10, 10, 8, 11, 8, 6, 6, 6, 5, 5, 5, 6, 6, 6, 6, 6, 6, 6, 7, 8, 15, 6, 12, 10, 13, 6, 7, 7, 7, 7, 7, 7, 7, 7, 7, 7, 7, 7, 7, 7, 7, 7, 7, 7, 7, 7, 7, 7, 8, 7, 8, 13, 19, 13, 14, 6, 15, 5, 6, 5, 6, 5, 6, 6, 6, 5, 7, 7, 6, 6, 6, 5, 6, 7, 6, 5, 5, 6, 7, 7, 7, 7, 7, 15, 11, 14, 13, 28, 20, 22, 20, 20, 22, 22, 22, 23, 22, 23, 23, 23, 23, 23, 24, 23, 24, 24, 22, 23, 24, 23, 23, 23, 23, 21, 22, 23, 22, 23, 23, 24, 22, 21, 20, 22, 22, 23, 23, 21, 23, 22, 22, 24, 21, 22, 23, 23, 21, 21, 22, 21, 23, 22, 23, 23, 20, 22, 22, 22, 23, 22, 22, 23, 26, 26, 20, 19, 22, 23, 22, 25, 26, 26, 26, 27, 27, 26, 24, 25, 19, 21, 26, 27, 27, 26, 27, 24, 21, 21, 26, 26, 28, 27, 27, 27, 20, 24, 20, 21, 22, 21, 21, 23, 22, 22, 25, 25, 24, 24, 26, 23, 26, 27, 26, 26, 27, 27, 27, 27, 27, 28, 27, 27, 27, 27, 27, 26, 30]
/-- The codes. -/
def cods : List Nat := [8184, 8388568, 268435426, 268435427, 268435428, 268435429, 268435430, 268435431, 268435432, 16777194, 1073741820, 268435433, 268435434, 1073741821, 268435435, 268435436, 268435437, 268435438, 268435439, 268435440, 268435441, 268435442, 1073741822, 268435443, 268435444, 268435445, 268435446, 268435447, 268435448, 268435449, 268435450, 268435451, 20, 1016, 1017, 4090, 8185, 21, 248, 2042, 1018, 1019, 249, 2043, 250, 22, 23, 24, 0, 1, 2, 25, 26, 27, 28, 29, 30, 31, 92, 251, 32764, 32, 4091, 1020, 8186, 33, 93, 94, 95, 96, 97, 98, 99, 100, 101, 102, 103, 104, 105, 106, 107, 108, 109, 110, 111, 112, 113, 114, 252, 115, 253, 8187, 524272, 8188, 16380, 34, 32765, 3, 35, 4, 36, 5, 37, 38, 39, 6, 116, 117, 40, 41, 42, 7, 43, 118, 44, 8, 9, 45, 119, 120, 121, 122, 123, 32766, 2044, 16381, 8189, 268435452, 1048550, 4194258, 1048551, 1048552, 4194259, 4194260, 4194261, 8388569, 4194262, 8388570, 8388571, 8388572, 8388573, 8388574, 16777195, 8388575, 16777196, 16777197, 4194263, 8388576, 16777198, 8388577, 8388578, 8388579, 8388580, 2097116, 4194264, 8388581, 4194265, 8388582, 8388583, 16777199, 4194266, 2097117, 1048553, 4194267, 4194268, 8388584, 8388585, 2097118, 8388586, 4194269, 4194270, 16777200, 2097119, 4194271, 8388587, 8388588, 2097120, 2097121, 4194272, 2097122, 8388589, 4194273, 8388590, 8388591, 1048554, 4194274, 4194275, 4194276, 8388592, 4194277, 4194278, 8388593, 67108832, 67108833, 1048555, 524273, 4194279, 8388594, 4194280, 33554412, 67108834, 67108835, 67108836, 134217694, 134217695, 67108837, 16777201, 33554413, 524274, 2097123, 67108838, 134217696, 134217697, 67108839, 134217698, 16777202, 2097124, 2097125, 67108840, 67108841, 268435453, 134217699, 134217700, 134217701, 1048556, 16777203, 1048557, 2097126, 4194281, 2097127, 2097128, 8388595, 4194282, 4194283, 33554414, 33554415, 16777204, 16777205, 67108842, 8388596, 67108843, 134217702, 67108844, 67108845, 134217703, 134217704, 134217705, 134217706, 134217707, 268435454, 134217708, 134217709, 134217710, 134217711, 134217712, 67108846, 1073741823]
def lims : List Nat := [0, 0, 0, 0, 0, 10, 46, 124, 254, 508, 1021, 2045, 4092, 8190, 16382, 32767, 65534, 131068, 262136, 524275, 1048558, 2097129, 4194284, 8388597, 16777206, 33554416, 67108847, 134217713, 268435455, 536870910, 1073741824]
theorem lens_len : lens.length = 257 := by decide +kernel
theorem cods_len : cods.length = 257 := by decide +kernel
/-- One step of a pass for the codes of l bits. -/
def stp (l i : Nat) (s : Nat × List Nat) : Nat × List Nat := if lens.getD i 0 = l then ((s.1 + 1) % 4294967296, s.2.set i s.1) else s
def inn (l : Nat) : Nat → Nat × List Nat → Nat × List Nat
  | 0, s => s
  | i + 1, s => stp l i (inn l i s)
/-- The code and the table behind the first so many passes. -/
def outr : Nat → Nat × List Nat
  | 0 => (0, List.replicate 257 0)
  | l + 1 => match outr l with | (c, o) => inn (l + 1) 257 (c * 2 % 4294967296, o)
theorem outr_succ (l : Nat) : outr (l + 1) = inn (l + 1) 257 ((outr l).1 * 2 % 4294967296, (outr l).2) := rfl
set_option maxRecDepth 100000 in
theorem outr_all : (outr 30).2 = cods := by decide +kernel
end Go.Proofs.YtiandidencnlcaaDoor.Hf
/- Huffman's code of RFC 7541: bits, packing into bytes, reading bit by bit. Nothing of the program is named here. -/
namespace Go.Proofs.YtiandidencnlcaaDoor.Hf

abbrev ln (i : Nat) : Nat := lens.getD i 0
abbrev cd (i : Nat) : Nat := cods.getD i 0
/-- The bits of a code, the first bit first. -/
def bOf (i : Nat) : List Nat := (List.range (ln i)).map fun k => cd i / 2 ^ (ln i - 1 - k) % 2
def eBits : List Nat → List Nat
  | [] => []
  | x :: r => bOf x ++ eBits r
def nBits : List Nat → Nat
  | [] => 0
  | x :: r => ln x + nBits r
theorem bOf_len (i : Nat) : (bOf i).length = ln i := by simp [bOf]
theorem eBits_len : ∀ l, (eBits l).length = nBits l
  | [] => rfl
  | x :: r => by rw [eBits, nBits, List.length_append, bOf_len, eBits_len r]
theorem eBits_app (a b : List Nat) : eBits (a ++ b) = eBits a ++ eBits b := by
  induction a with
  | nil => rfl
  | cons x r ih => simp [eBits, ih]
theorem nBits_app (a b : List Nat) : nBits (a ++ b) = nBits a + nBits b := by
  induction a with
  | nil => simp [nBits]
  | cons x r ih => simp [nBits, ih]; omega
/-- Each is a bit. -/
def Bt (B : List Nat) : Prop := ∀ x ∈ B, x ≤ 1
theorem bOf_bt (i : Nat) : Bt (bOf i) := by
  intro x hx
  simp only [bOf, List.mem_map] at hx
  obtain ⟨k, _, rfl⟩ := hx
  omega
theorem eBits_bt : ∀ l, Bt (eBits l)
  | [] => fun x hx => by simp [eBits] at hx
  | y :: r => fun x hx => by
    rw [eBits, List.mem_append] at hx
    rcases hx with h | h
    · exact bOf_bt y x h
    · exact eBits_bt r x h
theorem getD_bt {B : List Nat} (h : Bt B) (i d : Nat) (hd : d ≤ 1) : B.getD i d ≤ 1 := by
  rcases Nat.lt_or_ge i B.length with hl | hl
  · rw [List.getD, List.getElem?_eq_getElem hl]
    exact h _ (List.getElem_mem _)
  · rw [List.getD, List.getElem?_eq_none hl]
    exact hd
/-- The k-th byte; where there is no bit any more, a one. -/
def byteAt (B : List Nat) (k : Nat) : Nat :=
  B.getD (8 * k) 1 * 128 + B.getD (8 * k + 1) 1 * 64 + B.getD (8 * k + 2) 1 * 32 + B.getD (8 * k + 3) 1 * 16 + B.getD (8 * k + 4) 1 * 8 + B.getD (8 * k + 5) 1 * 4 + B.getD (8 * k + 6) 1 * 2 + B.getD (8 * k + 7) 1
def pack (B : List Nat) : List Nat := (List.range ((B.length + 7) / 8)).map (byteAt B)
theorem pack_len (B : List Nat) : (pack B).length = (B.length + 7) / 8 := by simp [pack]
theorem byteAt_lt {B : List Nat} (h : Bt B) (k : Nat) : byteAt B k < 256 := by
  have g := fun i => getD_bt h i 1 (Nat.le_refl _)
  have h0 := g (8 * k)
  have h1 := g (8 * k + 1)
  have h2 := g (8 * k + 2)
  have h3 := g (8 * k + 3)
  have h4 := g (8 * k + 4)
  have h5 := g (8 * k + 5)
  have h6 := g (8 * k + 6)
  have h7 := g (8 * k + 7)
  unfold byteAt
  omega
theorem pack_byte {B : List Nat} (h : Bt B) : ∀ x ∈ pack B, x < 256 := by
  intro x hx
  simp only [pack, List.mem_map] at hx
  obtain ⟨k, _, rfl⟩ := hx
  exact byteAt_lt h k
theorem getD_one (B : List Nat) (m : Nat) : (B ++ [1]).getD m 1 = B.getD m 1 := by
  rcases Nat.lt_trichotomy m B.length with h | h | h
  · simp [List.getD, List.getElem?_append_left h]
  · subst h; simp [List.getD]
  · rw [List.getD, List.getElem?_eq_none (by simp; omega), List.getD, List.getElem?_eq_none (by omega)]
theorem byteAt_one (B : List Nat) (k : Nat) : byteAt (B ++ [1]) k = byteAt B k := by
  unfold byteAt
  simp only [getD_one]
/-- A one more. -/
theorem pack_one (B : List Nat) : pack (B ++ [1]) = if B.length % 8 = 0 then pack B ++ [255] else pack B := by
  unfold pack
  rw [show byteAt (B ++ [1]) = byteAt B from funext (byteAt_one B), List.length_append]
  split
  · rename_i h
    rw [show (B.length + [1].length + 7) / 8 = (B.length + 7) / 8 + 1 by simp; omega, List.range_succ, List.map_append]
    congr 1
    simp only [List.map_cons, List.map_nil]
    congr 1
    have hk : 8 * ((B.length + 7) / 8) = B.length := by omega
    unfold byteAt
    rw [hk]
    have e : ∀ j, B.getD (B.length + j) 1 = 1 := fun j => by rw [List.getD, List.getElem?_eq_none (by omega)]; rfl
    have e0 : B.getD B.length 1 = 1 := e 0
    rw [e0, e, e, e, e, e, e, e]
  · rename_i h
    rw [show (B.length + [1].length + 7) / 8 = (B.length + 7) / 8 by simp; omega]
theorem xor_bit : ∀ (x : Fin 256) (j : Fin 8), x.1 / 2 ^ (7 - j.1) % 2 = 1 → x.1 ^^^ 2 ^ (7 - j.1) = x.1 - 2 ^ (7 - j.1) := by decide +kernel
theorem getD_zero (B : List Nat) (m : Nat) : (B ++ [0]).getD m 1 = if m = B.length then 0 else B.getD m 1 := by
  rcases Nat.lt_trichotomy m B.length with h | h | h
  · rw [if_neg (by omega)]; simp [List.getD, List.getElem?_append_left h]
  · subst h; simp [List.getD]
  · rw [if_neg (by omega), List.getD, List.getElem?_eq_none (by simp; omega), List.getD, List.getElem?_eq_none (by omega)]
theorem byteAt_zero_other (B : List Nat) (k : Nat) (h : k ≠ B.length / 8) : byteAt (B ++ [0]) k = byteAt (B ++ [1]) k := by
  rw [byteAt_one]
  unfold byteAt
  simp only [getD_zero]
  rw [if_neg (by omega), if_neg (by omega), if_neg (by omega), if_neg (by omega), if_neg (by omega), if_neg (by omega), if_neg (by omega), if_neg (by omega)]
theorem byteAt_zero_last (B : List Nat) (hB : Bt B) : byteAt (B ++ [1]) (B.length / 8) ^^^ 2 ^ (7 - B.length % 8) = byteAt (B ++ [0]) (B.length / 8) := by
  have hlt : byteAt (B ++ [1]) (B.length / 8) < 256 := by rw [byteAt_one]; exact byteAt_lt hB _
  have g := fun i => getD_bt hB i 1 (Nat.le_refl _)
  have e1 : B.getD B.length 1 = 1 := by rw [List.getD, List.getElem?_eq_none (Nat.le_refl _)]; rfl
  have key : byteAt (B ++ [1]) (B.length / 8) / 2 ^ (7 - B.length % 8) % 2 = 1 ∧ byteAt (B ++ [0]) (B.length / 8) = byteAt (B ++ [1]) (B.length / 8) - 2 ^ (7 - B.length % 8) := by
    rw [byteAt_one]
    unfold byteAt
    simp only [getD_zero]
    obtain ⟨k, hk⟩ : ∃ k, k = B.length / 8 := ⟨_, rfl⟩
    rw [← hk]
    have h0 := g (8 * k)
    have h1 := g (8 * k + 1)
    have h2 := g (8 * k + 2)
    have h3 := g (8 * k + 3)
    have h4 := g (8 * k + 4)
    have h5 := g (8 * k + 5)
    have h6 := g (8 * k + 6)
    have h7 := g (8 * k + 7)
    rcases (show B.length % 8 = 0 ∨ B.length % 8 = 1 ∨ B.length % 8 = 2 ∨ B.length % 8 = 3 ∨ B.length % 8 = 4 ∨ B.length % 8 = 5 ∨ B.length % 8 = 6 ∨ B.length % 8 = 7 by omega) with r | r | r | r | r | r | r | r
    · rw [if_pos (show 8 * k = B.length by omega), if_neg (show ¬ 8 * k + 1 = B.length by omega), if_neg (show ¬ 8 * k + 2 = B.length by omega), if_neg (show ¬ 8 * k + 3 = B.length by omega), if_neg (show ¬ 8 * k + 4 = B.length by omega), if_neg (show ¬ 8 * k + 5 = B.length by omega), if_neg (show ¬ 8 * k + 6 = B.length by omega), if_neg (show ¬ 8 * k + 7 = B.length by omega), r]
      rw [show B.getD (8 * k) 1 = 1 by rw [show 8 * k = B.length by omega]; exact e1]
      omega
    · rw [if_neg (show ¬ 8 * k = B.length by omega), if_pos (show 8 * k + 1 = B.length by omega), if_neg (show ¬ 8 * k + 2 = B.length by omega), if_neg (show ¬ 8 * k + 3 = B.length by omega), if_neg (show ¬ 8 * k + 4 = B.length by omega), if_neg (show ¬ 8 * k + 5 = B.length by omega), if_neg (show ¬ 8 * k + 6 = B.length by omega), if_neg (show ¬ 8 * k + 7 = B.length by omega), r]
      rw [show B.getD (8 * k + 1) 1 = 1 by rw [show 8 * k + 1 = B.length by omega]; exact e1]
      omega
    · rw [if_neg (show ¬ 8 * k = B.length by omega), if_neg (show ¬ 8 * k + 1 = B.length by omega), if_pos (show 8 * k + 2 = B.length by omega), if_neg (show ¬ 8 * k + 3 = B.length by omega), if_neg (show ¬ 8 * k + 4 = B.length by omega), if_neg (show ¬ 8 * k + 5 = B.length by omega), if_neg (show ¬ 8 * k + 6 = B.length by omega), if_neg (show ¬ 8 * k + 7 = B.length by omega), r]
      rw [show B.getD (8 * k + 2) 1 = 1 by rw [show 8 * k + 2 = B.length by omega]; exact e1]
      omega
    · rw [if_neg (show ¬ 8 * k = B.length by omega), if_neg (show ¬ 8 * k + 1 = B.length by omega), if_neg (show ¬ 8 * k + 2 = B.length by omega), if_pos (show 8 * k + 3 = B.length by omega), if_neg (show ¬ 8 * k + 4 = B.length by omega), if_neg (show ¬ 8 * k + 5 = B.length by omega), if_neg (show ¬ 8 * k + 6 = B.length by omega), if_neg (show ¬ 8 * k + 7 = B.length by omega), r]
      rw [show B.getD (8 * k + 3) 1 = 1 by rw [show 8 * k + 3 = B.length by omega]; exact e1]
      omega
    · rw [if_neg (show ¬ 8 * k = B.length by omega), if_neg (show ¬ 8 * k + 1 = B.length by omega), if_neg (show ¬ 8 * k + 2 = B.length by omega), if_neg (show ¬ 8 * k + 3 = B.length by omega), if_pos (show 8 * k + 4 = B.length by omega), if_neg (show ¬ 8 * k + 5 = B.length by omega), if_neg (show ¬ 8 * k + 6 = B.length by omega), if_neg (show ¬ 8 * k + 7 = B.length by omega), r]
      rw [show B.getD (8 * k + 4) 1 = 1 by rw [show 8 * k + 4 = B.length by omega]; exact e1]
      omega
    · rw [if_neg (show ¬ 8 * k = B.length by omega), if_neg (show ¬ 8 * k + 1 = B.length by omega), if_neg (show ¬ 8 * k + 2 = B.length by omega), if_neg (show ¬ 8 * k + 3 = B.length by omega), if_neg (show ¬ 8 * k + 4 = B.length by omega), if_pos (show 8 * k + 5 = B.length by omega), if_neg (show ¬ 8 * k + 6 = B.length by omega), if_neg (show ¬ 8 * k + 7 = B.length by omega), r]
      rw [show B.getD (8 * k + 5) 1 = 1 by rw [show 8 * k + 5 = B.length by omega]; exact e1]
      omega
    · rw [if_neg (show ¬ 8 * k = B.length by omega), if_neg (show ¬ 8 * k + 1 = B.length by omega), if_neg (show ¬ 8 * k + 2 = B.length by omega), if_neg (show ¬ 8 * k + 3 = B.length by omega), if_neg (show ¬ 8 * k + 4 = B.length by omega), if_neg (show ¬ 8 * k + 5 = B.length by omega), if_pos (show 8 * k + 6 = B.length by omega), if_neg (show ¬ 8 * k + 7 = B.length by omega), r]
      rw [show B.getD (8 * k + 6) 1 = 1 by rw [show 8 * k + 6 = B.length by omega]; exact e1]
      omega
    · rw [if_neg (show ¬ 8 * k = B.length by omega), if_neg (show ¬ 8 * k + 1 = B.length by omega), if_neg (show ¬ 8 * k + 2 = B.length by omega), if_neg (show ¬ 8 * k + 3 = B.length by omega), if_neg (show ¬ 8 * k + 4 = B.length by omega), if_neg (show ¬ 8 * k + 5 = B.length by omega), if_neg (show ¬ 8 * k + 6 = B.length by omega), if_pos (show 8 * k + 7 = B.length by omega), r]
      rw [show B.getD (8 * k + 7) 1 = 1 by rw [show 8 * k + 7 = B.length by omega]; exact e1]
      omega
  have := xor_bit ⟨_, hlt⟩ ⟨B.length % 8, Nat.mod_lt _ (by omega)⟩ key.1
  rw [key.2]
  exact this
/-- A nought more: the last byte's bit is turned. -/
theorem pack_zero (B : List Nat) (hB : Bt B) : pack (B ++ [0]) = (pack (B ++ [1])).set (B.length / 8) (byteAt (B ++ [1]) (B.length / 8) ^^^ 2 ^ (7 - B.length % 8)) := by
  apply List.ext_getElem
  · simp [pack]
  · intro k h1 h2
    rw [List.getElem_set]
    simp only [pack, List.getElem_map, List.getElem_range]
    split
    · rename_i h
      subst h
      exact (byteAt_zero_last B hB).symm
    · rename_i h
      exact byteAt_zero_other B k (fun e => h e.symm)
/-- The bits of bytes, the greatest bit of each first. -/
def unp (b : List Nat) : List Nat := (List.range (8 * b.length)).map fun a => b.getD (a / 8) 0 / 2 ^ (7 - a % 8) % 2
theorem unp_len (b : List Nat) : (unp b).length = 8 * b.length := by simp [unp]
theorem unp_bt (b : List Nat) : Bt (unp b) := by
  intro x hx
  simp only [unp, List.mem_map] at hx
  obtain ⟨k, _, rfl⟩ := hx
  omega
end Go.Proofs.YtiandidencnlcaaDoor.Hf
