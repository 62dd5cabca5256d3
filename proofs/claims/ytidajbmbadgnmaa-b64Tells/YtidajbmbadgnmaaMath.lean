/- Plain mathematics of Base64 over lists of bytes: the text of bytes, the bytes of a text, and that each is the other's inverse. Nothing of the program is named here. -/
namespace Go.Proofs.Ytidajbmbadgnmaa.Bm

def alph : List UInt8 := [65, 66, 67, 68, 69, 70, 71, 72, 73, 74, 75, 76, 77, 78, 79, 80, 81, 82, 83, 84, 85, 86, 87, 88, 89, 90, 97, 98, 99, 100, 101, 102, 103, 104, 105, 106, 107, 108, 109, 110, 111, 112, 113, 114, 115, 116, 117, 118, 119, 120, 121, 122, 48, 49, 50, 51, 52, 53, 54, 55, 56, 57, 43, 47]
/-- The sign of six bits. -/
def sgn (n : Nat) : UInt8 := alph.getD n 61
/-- The six bits of a sign; 64: it is none. -/
def val (c : UInt8) : Nat := alph.idxOf c

theorem alph_len : alph.length = 64 := rfl
theorem val_le (c : UInt8) : val c ≤ 64 := by unfold val; rw [← alph_len]; exact List.idxOf_le_length
theorem sgn_val (c : UInt8) (h : val c < 64) : sgn (val c) = c := by
  unfold sgn val at *
  have hl : List.idxOf c alph < alph.length := by rw [alph_len]; exact h
  rw [List.getD, List.getElem?_eq_getElem hl, Option.getD_some]
  exact List.getElem_idxOf hl
theorem val_sgn_fin : ∀ n : Fin 64, val (sgn n.1) = n.1 := by decide
theorem val_sgn (n : Nat) (h : n < 64) : val (sgn n) = n := val_sgn_fin ⟨n, h⟩
theorem sgn_pad_fin : ∀ n : Fin 64, sgn n.1 ≠ 61 := by decide
theorem sgn_pad (n : Nat) (h : n < 64) : sgn n ≠ 61 := sgn_pad_fin ⟨n, h⟩
theorem val_pad : val 61 = 64 := by decide
def isSign (x : UInt8) : Bool := (65 ≤ x && x ≤ 90) || (97 ≤ x && x ≤ 122) || (48 ≤ x && x ≤ 57) || x == 43 || x == 47
theorem sgn_isSign_fin : ∀ n : Fin 64, isSign (sgn n.1) = true := by decide
theorem sgn_isSign (n : Nat) (h : n < 64) : isSign (sgn n) = true := sgn_isSign_fin ⟨n, h⟩

/-- The signs that are ready out of h bits b, and what is left. -/
def drn (b h : Nat) : List UInt8 × Nat × Nat :=
  if h < 6 then ([], b, h) else (sgn (b / 2 ^ (h - 6)) :: (drn (b % 2 ^ (h - 6)) (h - 6)).1, (drn (b % 2 ^ (h - 6)) (h - 6)).2)
termination_by h

theorem drain_lt {b h : Nat} (hh : h < 6) : drn b h = ([], b, h) := by rw [drn, if_pos hh]
theorem drain_ge {b h : Nat} (hh : 6 ≤ h) : drn b h = (sgn (b / 2 ^ (h - 6)) :: (drn (b % 2 ^ (h - 6)) (h - 6)).1, (drn (b % 2 ^ (h - 6)) (h - 6)).2) := by
  conv => lhs; rw [drn]
  rw [if_neg (by omega)]

/-- What is still to be written with h bits b at hand, ahead of the pads. -/
def encS : Nat → Nat → List UInt8 → List UInt8
  | b, h, [] => if 0 < h then [sgn (b * 2 ^ (6 - h))] else []
  | b, h, c :: r => (drn (b * 256 + c.toNat) (h + 8)).1 ++ encS (drn (b * 256 + c.toNat) (h + 8)).2.1 (drn (b * 256 + c.toNat) (h + 8)).2.2 r

def padTo (l : List UInt8) : List UInt8 := l ++ List.replicate ((4 - l.length % 4) % 4) 61

def core (l : List UInt8) : List UInt8 := encS 0 0 l
def enc (l : List UInt8) : List UInt8 := padTo (core l)

theorem drain8 (x : Nat) : drn x 8 = ([sgn (x / 4)], x % 4, 2) := by
  rw [drain_ge (by omega), drain_lt (by omega)]
theorem drain10 (x : Nat) : drn x 10 = ([sgn (x / 16)], x % 16, 4) := by
  rw [drain_ge (by omega), drain_lt (by omega)]
theorem drain12 (x : Nat) : drn x 12 = ([sgn (x / 64), sgn (x % 64)], 0, 0) := by
  rw [drain_ge (by omega), drain_ge (by omega), drain_lt (by omega)]
  simp [Nat.mod_one]

theorem core0 : core [] = [] := by simp [core, encS]
theorem encS_nil (b h : Nat) : encS b h [] = if 0 < h then [sgn (b * 2 ^ (6 - h))] else [] := rfl
theorem encS_cons (b h : Nat) (c : UInt8) (r : List UInt8) : encS b h (c :: r) = (drn (b * 256 + c.toNat) (h + 8)).1 ++ encS (drn (b * 256 + c.toNat) (h + 8)).2.1 (drn (b * 256 + c.toNat) (h + 8)).2.2 r := rfl
theorem encS_0 (c : UInt8) (r : List UInt8) : encS 0 0 (c :: r) = sgn (c.toNat / 4) :: encS (c.toNat % 4) 2 r := by
  rw [encS_cons, Nat.zero_mul, Nat.zero_add, show 0 + 8 = 8 from rfl, drain8]; rfl
theorem encS_2 (b : Nat) (c : UInt8) (r : List UInt8) : encS b 2 (c :: r) = sgn ((b * 256 + c.toNat) / 16) :: encS ((b * 256 + c.toNat) % 16) 4 r := by
  rw [encS_cons, show 2 + 8 = 10 from rfl, drain10]; rfl
theorem encS_4 (b : Nat) (c : UInt8) (r : List UInt8) : encS b 4 (c :: r) = sgn ((b * 256 + c.toNat) / 64) :: sgn ((b * 256 + c.toNat) % 64) :: encS 0 0 r := by
  rw [encS_cons, show 4 + 8 = 12 from rfl, drain12]; rfl
theorem ar1 (x y : Nat) : (x % 4 * 256 + y) / 16 = x % 4 * 16 + y / 16 := by omega
theorem ar2 (x y : Nat) : (x % 4 * 256 + y) % 16 = y % 16 := by omega
theorem ar3 (x y : Nat) : (x % 16 * 256 + y) / 64 = x % 16 * 4 + y / 64 := by omega
theorem ar4 (x y : Nat) : (x % 16 * 256 + y) % 64 = y % 64 := by omega
theorem core1 (a : UInt8) : core [a] = [sgn (a.toNat / 4), sgn (a.toNat % 4 * 16)] := by
  rw [core, encS_0, encS_nil, if_pos (by omega)]
theorem core2 (a b : UInt8) : core [a, b] = [sgn (a.toNat / 4), sgn (a.toNat % 4 * 16 + b.toNat / 16), sgn (b.toNat % 16 * 4)] := by
  rw [core, encS_0, encS_2, encS_nil, if_pos (by omega), ar1, ar2]
theorem core3 (a b c : UInt8) (r : List UInt8) : core (a :: b :: c :: r) =
    sgn (a.toNat / 4) :: sgn (a.toNat % 4 * 16 + b.toNat / 16) :: sgn (b.toNat % 16 * 4 + c.toNat / 64) :: sgn (c.toNat % 64) :: core r := by
  rw [core, encS_0, encS_2, encS_4, ar1, ar2, ar3, ar4]; rfl

/-- A list by threes. -/
theorem by3 {P : List UInt8 → Prop} (h0 : P []) (h1 : ∀ a, P [a]) (h2 : ∀ a b, P [a, b]) (h3 : ∀ a b c r, P r → P (a :: b :: c :: r)) : ∀ l, P l
  | [] => h0
  | [a] => h1 a
  | [a, b] => h2 a b
  | a :: b :: c :: r => h3 a b c r (by3 h0 h1 h2 h3 r)
/-- A list by fours. -/
theorem by4 {P : List UInt8 → Prop} (h0 : P []) (h1 : ∀ a, P [a]) (h2 : ∀ a b, P [a, b]) (h3 : ∀ a b c, P [a, b, c]) (h4 : ∀ a b c d r, P r → P (a :: b :: c :: d :: r)) : ∀ l, P l
  | [] => h0
  | [a] => h1 a
  | [a, b] => h2 a b
  | [a, b, c] => h3 a b c
  | a :: b :: c :: d :: r => h4 a b c d r (by4 h0 h1 h2 h3 h4 r)

theorem core_len : ∀ l : List UInt8, (core l).length = (l.length * 4 + 2) / 3 := by
  apply by3
  · simp [core0]
  · intro a; simp [core1]
  · intro a b; simp [core2]
  · intro a b c r h; simp only [core3, List.length_cons, h]; omega
theorem core_sign : ∀ l : List UInt8, ∀ x ∈ core l, ∃ n, n < 64 ∧ x = sgn n := by
  apply by3
  · simp [core0]
  · intro a x hx
    have := a.toNat_lt
    simp only [core1, List.mem_cons, List.not_mem_nil, or_false] at hx
    rcases hx with rfl | rfl
    · exact ⟨_, by omega, rfl⟩
    · exact ⟨_, by omega, rfl⟩
  · intro a b x hx
    have := a.toNat_lt
    have := b.toNat_lt
    simp only [core2, List.mem_cons, List.not_mem_nil, or_false] at hx
    rcases hx with rfl | rfl | rfl
    · exact ⟨_, by omega, rfl⟩
    · exact ⟨_, by omega, rfl⟩
    · exact ⟨_, by omega, rfl⟩
  · intro a b c r ih x hx
    have := a.toNat_lt
    have := b.toNat_lt
    have := c.toNat_lt
    simp only [core3, List.mem_cons] at hx
    rcases hx with rfl | rfl | rfl | rfl | hx
    · exact ⟨_, by omega, rfl⟩
    · exact ⟨_, by omega, rfl⟩
    · exact ⟨_, by omega, rfl⟩
    · exact ⟨_, by omega, rfl⟩
    · exact ih x hx
theorem core_no_pad (l : List UInt8) : ∀ x ∈ core l, x ≠ 61 := by
  intro x hx
  obtain ⟨n, hn, rfl⟩ := core_sign l x hx
  exact sgn_pad n hn
theorem enc_len (l : List UInt8) : (enc l).length = (l.length + 2) / 3 * 4 := by
  unfold enc padTo
  rw [List.length_append, List.length_replicate, core_len]
  omega
theorem core_join (b : List UInt8) : ∀ a : List UInt8, a.length % 3 = 0 → core (a ++ b) = core a ++ core b := by
  apply by3
  · intro _; simp [core0]
  · intro a h; simp at h
  · intro a c h; simp at h
  · intro x y z r ih h
    have := ih (by simp only [List.length_cons] at h; omega)
    simp only [List.cons_append, core3, this]
theorem enc_join (a b : List UInt8) (h : a.length % 3 = 0) : enc (a ++ b) = enc a ++ enc b := by
  have hl := core_len a
  unfold enc padTo
  rw [core_join b a h, List.length_append]
  have e1 : (4 - (core a).length % 4) % 4 = 0 := by omega
  have e2 : ((core a).length + (core b).length) % 4 = (core b).length % 4 := by omega
  rw [e1, e2]
  simp

/-- The bytes still to be read with h bits b at hand; none: there is a sign that is none, or rest bits. -/
def decS : Nat → Nat → List UInt8 → Option (List UInt8)
  | b, _, [] => if b = 0 then some [] else none
  | b, h, c :: r =>
    if val c < 64 then
      if 8 ≤ h + 6 then (decS ((b * 64 + val c) % 2 ^ (h - 2)) (h - 2) r).map (fun o => UInt8.ofNat ((b * 64 + val c) / 2 ^ (h - 2)) :: o)
      else decS (b * 64 + val c) (h + 6) r
    else none

def strip (s : List UInt8) : List UInt8 := if s.getLast? = some 61 then s.dropLast else s
def dec (s : List UInt8) : Option (List UInt8) := if s.length % 4 = 0 then decS 0 0 (strip (strip s)) else none

theorem decS_bad {b h : Nat} {c : UInt8} {r : List UInt8} (hc : ¬ val c < 64) : decS b h (c :: r) = none := by simp [decS, hc]
theorem decS_in {b h : Nat} {c : UInt8} {r : List UInt8} (hc : val c < 64) (hh : ¬ 8 ≤ h + 6) : decS b h (c :: r) = decS (b * 64 + val c) (h + 6) r := by
  simp only [decS, if_pos hc, if_neg hh]
theorem decS_out {b h : Nat} {c : UInt8} {r : List UInt8} (hc : val c < 64) (hh : 8 ≤ h + 6) :
    decS b h (c :: r) = (decS ((b * 64 + val c) % 2 ^ (h - 2)) (h - 2) r).map (fun o => UInt8.ofNat ((b * 64 + val c) / 2 ^ (h - 2)) :: o) := by
  simp only [decS, if_pos hc, if_pos hh]

theorem dec2 (p q : UInt8) (hp : val p < 64) (hq : val q < 64) : decS 0 0 [p, q] = if (val p * 64 + val q) % 16 = 0 then some [UInt8.ofNat ((val p * 64 + val q) / 16)] else none := by
  rw [decS_in hp (by omega), decS_out hq (by omega)]
  simp only [decS, Nat.zero_mul, Nat.zero_add, Nat.reduceSub, Nat.reducePow]
  split <;> rfl
theorem dec3 (p q r : UInt8) (hp : val p < 64) (hq : val q < 64) (hr : val r < 64) : decS 0 0 [p, q, r] =
    if ((val p * 64 + val q) % 16 * 64 + val r) % 4 = 0 then some [UInt8.ofNat ((val p * 64 + val q) / 16), UInt8.ofNat (((val p * 64 + val q) % 16 * 64 + val r) / 4)] else none := by
  rw [decS_in hp (by omega), decS_out hq (by omega), decS_out hr (by omega)]
  simp only [decS, Nat.zero_mul, Nat.zero_add, Nat.reduceSub, Nat.reducePow]
  split <;> rfl
theorem dec4 (p q r t : UInt8) (l : List UInt8) (hp : val p < 64) (hq : val q < 64) (hr : val r < 64) (ht : val t < 64) : decS 0 0 (p :: q :: r :: t :: l) =
    (decS 0 0 l).map fun o => UInt8.ofNat ((val p * 64 + val q) / 16) :: UInt8.ofNat (((val p * 64 + val q) % 16 * 64 + val r) / 4) :: UInt8.ofNat (((val p * 64 + val q) % 16 * 64 + val r) % 4 * 64 + val t) :: o := by
  rw [decS_in hp (by omega), decS_out hq (by omega), decS_out hr (by omega), decS_out ht (by omega)]
  simp only [Nat.zero_mul, Nat.zero_add, Nat.reduceSub, Nat.reducePow, Nat.mod_one, Nat.div_one, Option.map_map]
  rfl

theorem toNat_ofNat {n : Nat} (h : n < 256) : (UInt8.ofNat n).toNat = n := by
  rw [UInt8.toNat_ofNat']
  exact Nat.mod_eq_of_lt (by simpa using h)
theorem ofNat_of (a : UInt8) {n : Nat} (h : n = a.toNat) : UInt8.ofNat n = a := by subst h; simp

/-- The bytes of the signs of bytes. -/
theorem dec_core : ∀ l : List UInt8, decS 0 0 (core l) = some l := by
  apply by3
  · simp [core0, decS]
  · intro a
    have := a.toNat_lt
    rw [core1]
    have v1 := val_sgn (a.toNat / 4) (by omega)
    have v2 := val_sgn (a.toNat % 4 * 16) (by omega)
    rw [dec2 _ _ (by omega) (by omega), v1, v2, if_pos (by omega), ofNat_of a (by omega)]
  · intro a b
    have := a.toNat_lt
    have := b.toNat_lt
    rw [core2]
    have v1 := val_sgn (a.toNat / 4) (by omega)
    have v2 := val_sgn (a.toNat % 4 * 16 + b.toNat / 16) (by omega)
    have v3 := val_sgn (b.toNat % 16 * 4) (by omega)
    rw [dec3 _ _ _ (by omega) (by omega) (by omega), v1, v2, v3, if_pos (by omega), ofNat_of a (by omega), ofNat_of b (by omega)]
  · intro a b c r ih
    have := a.toNat_lt
    have := b.toNat_lt
    have := c.toNat_lt
    rw [core3]
    have v1 := val_sgn (a.toNat / 4) (by omega)
    have v2 := val_sgn (a.toNat % 4 * 16 + b.toNat / 16) (by omega)
    have v3 := val_sgn (b.toNat % 16 * 4 + c.toNat / 64) (by omega)
    have v4 := val_sgn (c.toNat % 64) (by omega)
    rw [dec4 _ _ _ _ _ (by omega) (by omega) (by omega) (by omega), v1, v2, v3, v4, ofNat_of a (by omega), ofNat_of b (by omega), ofNat_of c (by omega), ih]
    rfl

/-- The signs of the bytes of signs. -/
theorem core_dec : ∀ s y : List UInt8, s.length % 4 ≠ 1 → decS 0 0 s = some y → core y = s := by
  apply by4
  · intro y _ h
    simp [decS] at h
    subst h
    exact core0
  · intro a y h
    simp at h
  · intro p q y _ h
    by_cases hp : val p < 64
    · by_cases hq : val q < 64
      · rw [dec2 p q hp hq] at h
        split at h
        · injection h with h
          subst h
          rw [core1, toNat_ofNat (by omega), show (val p * 64 + val q) / 16 / 4 = val p by omega, show (val p * 64 + val q) / 16 % 4 * 16 = val q by omega, sgn_val p hp, sgn_val q hq]
        · cases h
      · rw [decS_in hp (by omega), decS_bad hq] at h
        cases h
    · rw [decS_bad hp] at h
      cases h
  · intro p q r y _ h
    by_cases hp : val p < 64
    · by_cases hq : val q < 64
      · by_cases hr : val r < 64
        · rw [dec3 p q r hp hq hr] at h
          split at h
          · injection h with h
            subst h
            rw [core2, toNat_ofNat (by omega), toNat_ofNat (by omega), show (val p * 64 + val q) / 16 / 4 = val p by omega,
              show (val p * 64 + val q) / 16 % 4 * 16 + ((val p * 64 + val q) % 16 * 64 + val r) / 4 / 16 = val q by omega,
              show ((val p * 64 + val q) % 16 * 64 + val r) / 4 % 16 * 4 = val r by omega, sgn_val p hp, sgn_val q hq, sgn_val r hr]
          · cases h
        · rw [decS_in hp (by omega), decS_out hq (by omega), decS_bad hr] at h
          cases h
      · rw [decS_in hp (by omega), decS_bad hq] at h
        cases h
    · rw [decS_bad hp] at h
      cases h
  · intro p q r t l ih y hl h
    by_cases hp : val p < 64
    · by_cases hq : val q < 64
      · by_cases hr : val r < 64
        · by_cases ht : val t < 64
          · rw [dec4 p q r t l hp hq hr ht] at h
            cases ho : decS 0 0 l with
            | none => rw [ho] at h; cases h
            | some o =>
              rw [ho] at h
              injection h with h
              subst h
              have := ih o (by simp only [List.length_cons] at hl; omega) ho
              rw [core3, this, toNat_ofNat (by omega), toNat_ofNat (by omega), toNat_ofNat (by omega), show (val p * 64 + val q) / 16 / 4 = val p by omega,
                show (val p * 64 + val q) / 16 % 4 * 16 + ((val p * 64 + val q) % 16 * 64 + val r) / 4 / 16 = val q by omega,
                show ((val p * 64 + val q) % 16 * 64 + val r) / 4 % 16 * 4 + (((val p * 64 + val q) % 16 * 64 + val r) % 4 * 64 + val t) / 64 = val r by omega,
                show (((val p * 64 + val q) % 16 * 64 + val r) % 4 * 64 + val t) % 64 = val t by omega, sgn_val p hp, sgn_val q hq, sgn_val r hr, sgn_val t ht]
          · rw [decS_in hp (by omega), decS_out hq (by omega), decS_out hr (by omega), decS_bad ht] at h
            cases h
        · rw [decS_in hp (by omega), decS_out hq (by omega), decS_bad hr] at h
          cases h
      · rw [decS_in hp (by omega), decS_bad hq] at h
        cases h
    · rw [decS_bad hp] at h
      cases h

theorem strip_snoc (l : List UInt8) : strip (l ++ [61]) = l := by simp [strip]
theorem strip_sign (l : List UInt8) (h : ∀ x ∈ l, x ≠ 61) : strip l = l := by
  unfold strip
  rw [if_neg]
  intro e
  exact h 61 (List.mem_of_getLast? e) rfl
theorem strip_cases (s : List UInt8) : strip s = s ∨ s = strip s ++ [61] := by
  unfold strip
  split
  · right
    rename_i h
    have hne : s ≠ [] := by rintro rfl; cases h
    rw [List.getLast?_eq_some_getLast hne] at h
    injection h with h
    conv => lhs; rw [← List.dropLast_concat_getLast hne, h]
  · exact .inl rfl

theorem dec_enc (l : List UInt8) : dec (enc l) = some l := by
  have hl := enc_len l
  have hc := core_len l
  have hs := strip_sign _ (core_no_pad l)
  unfold dec
  rw [if_pos (by omega)]
  have : strip (strip (enc l)) = core l := by
    unfold enc padTo
    rcases (show (4 - (core l).length % 4) % 4 = 0 ∨ (4 - (core l).length % 4) % 4 = 1 ∨ (4 - (core l).length % 4) % 4 = 2 by omega) with e | e | e
    · rw [e]; simp [hs]
    · rw [e, List.replicate_one, strip_snoc, hs]
    · rw [e, show List.replicate 2 (61 : UInt8) = [61] ++ [61] from rfl, ← List.append_assoc, strip_snoc, strip_snoc]
  rw [this, dec_core]

theorem padTo_one {l : List UInt8} (h : l.length % 4 = 3) : padTo l = l ++ [61] := by
  unfold padTo; rw [show (4 - l.length % 4) % 4 = 1 by omega]; rfl
theorem padTo_two {l : List UInt8} (h : l.length % 4 = 2) : padTo l = l ++ [61] ++ [61] := by
  unfold padTo; rw [show (4 - l.length % 4) % 4 = 2 by omega]; simp
theorem padTo_none {l : List UInt8} (h : l.length % 4 = 0) : padTo l = l := by
  unfold padTo; rw [show (4 - l.length % 4) % 4 = 0 by omega]; simp
theorem padTo_step {l : List UInt8} (h : l.length % 4 ≠ 0) : padTo (l ++ [61]) = padTo l := by
  unfold padTo
  rw [List.length_append, List.length_singleton, List.append_assoc]
  congr 1
  rcases (show l.length % 4 = 1 ∨ l.length % 4 = 2 ∨ l.length % 4 = 3 by omega) with e | e | e
  · rw [show (4 - (l.length + 1) % 4) % 4 = 2 by omega, show (4 - l.length % 4) % 4 = 3 by omega]; rfl
  · rw [show (4 - (l.length + 1) % 4) % 4 = 1 by omega, show (4 - l.length % 4) % 4 = 2 by omega]; rfl
  · rw [show (4 - (l.length + 1) % 4) % 4 = 0 by omega, show (4 - l.length % 4) % 4 = 1 by omega]; rfl

theorem enc_dec (s y : List UInt8) (h : dec s = some y) : enc y = s := by
  unfold dec at h
  split at h
  · rename_i hl
    unfold enc
    rcases strip_cases s with e | e
    · rw [e, e] at h
      rw [core_dec s y (by omega) h, padTo_none hl]
    · have l1 : s.length = (strip s).length + 1 := by
        have := congrArg List.length e
        simpa using this
      rcases strip_cases (strip s) with e' | e'
      · rw [e'] at h
        rw [core_dec _ y (by omega) h, padTo_one (by omega)]
        exact e.symm
      · have l2 : (strip s).length = (strip (strip s)).length + 1 := by
          have := congrArg List.length e'
          simpa using this
        rw [core_dec _ y (by omega) h, padTo_two (by omega)]
        rw [← e', ← e]
  · cases h

theorem enc_sign (l : List UInt8) : ∀ x ∈ enc l, isSign x = true ∨ x = 61 := by
  intro x hx
  unfold enc padTo at hx
  rcases List.mem_append.1 hx with h | h
  · obtain ⟨n, hn, rfl⟩ := core_sign l x h
    exact .inl (sgn_isSign n hn)
  · exact .inr (List.eq_of_mem_replicate h)
/-- A sign that stands ahead of the last two is no pad. -/
theorem enc_early (l : List UInt8) (i : Nat) (hi : i + 2 < (enc l).length) (x : UInt8) (hx : (enc l)[i]? = some x) : isSign x = true := by
  have hc := core_len l
  unfold enc padTo at hx hi
  rw [List.length_append, List.length_replicate] at hi
  rw [List.getElem?_append_left (by omega)] at hx
  obtain ⟨n, hn, rfl⟩ := core_sign l x (List.mem_of_getElem? hx)
  exact sgn_isSign n hn
/-- A text that has a byte that is neither a sign nor a pad is none. -/
theorem dec_foreign (s : List UInt8) (x : UInt8) (hx : x ∈ s) (h1 : isSign x = false) (h2 : x ≠ 61) : dec s = none := by
  cases h : dec s with
  | none => rfl
  | some y =>
    have := enc_dec s y h
    subst this
    rcases enc_sign y x hx with e | e
    · rw [h1] at e; cases e
    · exact absurd e h2
theorem dec_length (s : List UInt8) (h : s.length % 4 ≠ 0) : dec s = none := by unfold dec; rw [if_neg h]

end Go.Proofs.Ytidajbmbadgnmaa.Bm
