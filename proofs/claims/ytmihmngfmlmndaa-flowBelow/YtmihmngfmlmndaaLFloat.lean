/- Plain facts on IEEE doubles that stand for whole numbers: reading, order, sum, difference, cut towards zero. No Go program is named here. -/
import Derived.Laws.FloatArith
import Derived.Laws.ComplexArith
namespace Go.Proofs.Ytmihmngfmlmndaa.Fl
open Ieee

theorem signed_shift (s : Bool) (m u : Nat) : signed s m u = signed s m 0 * 2 ^ u := by
  unfold signed
  have e1 : m <<< u = m * 2 ^ u := Nat.shiftLeft_eq m u
  have e0 : m <<< 0 = m := by simp
  rw [e1, e0]
  cases s <;> simp [Int.neg_mul]

/-- The word x stands for the whole number k (its place is not above 0). -/
def Whole (x : Nat) (k : Int) : Prop := ∃ (s : Bool) (m e : Nat), double.read x = .number s m (-(e : Int)) ∧ signed s m 0 = k * 2 ^ e ∧ e ≤ 1074

theorem binade_eq : double.binade = 4503599627370496 := by decide
theorem infRung_eq : double.infRung = 9218868437227405312 := by decide
theorem signWeight_eq : double.signWeight = 9223372036854775808 := by decide
theorem leastPlace_eq : double.leastPlace = -1074 := by decide

theorem cut_zero (s : Bool) (n d : Nat) : Toward.zero.cut s n d = n / 2 ^ d := by
  unfold Toward.cut
  simp only [Bool.toNat_false, Nat.add_zero, Nat.one_shiftLeft]
  by_cases h : d ≤ n.log2 + 2
  · rw [Nat.min_eq_left h]
  · rw [Nat.min_eq_right (by omega)]
    have h1 : n < 2 ^ (n.log2 + 1) := Nat.lt_log2_self
    have h2 : 2 ^ (n.log2 + 1) ≤ 2 ^ (n.log2 + 2) := Nat.pow_le_pow_right (by omega) (by omega)
    have h3 : 2 ^ (n.log2 + 2) ≤ 2 ^ d := Nat.pow_le_pow_right (by omega) (by omega)
    rw [Nat.div_eq_of_lt (by omega), Nat.div_eq_of_lt (by omega)]

/-- The cut to even of an exact multiple. -/
theorem cut_even (s : Bool) (q d : Nat) : Toward.even.cut s (q * 2 ^ d) d = q := by
  unfold Toward.cut
  simp only [Nat.one_shiftLeft]
  by_cases hq : q = 0
  · subst hq
    have hp : 0 < 2 ^ min d (Nat.log2 (0 * 2 ^ d) + 2) := Nat.two_pow_pos _
    simp
  · have hl : d ≤ (q * 2 ^ d).log2 := by
      rw [Nat.le_log2 (by have := Nat.two_pow_pos d; exact Nat.mul_ne_zero hq (by omega))]
      exact Nat.le_mul_of_pos_left _ (by omega)
    have hp : 0 < 2 ^ d := Nat.two_pow_pos _
    rw [Nat.min_eq_left (by omega), Nat.mul_div_cancel _ hp, Nat.mul_mod_left]
    simp

theorem read_word (s : Bool) (r : Nat) (h1 : 4503599627370496 ≤ r) (h2 : r < 9218868437227405312) :
    double.read (double.word s r) = .number s (4503599627370496 + r % 4503599627370496) (-1074 + (r / 4503599627370496 - 1 : Nat)) := by
  have hw : double.word s r / 9223372036854775808 % 2 = s.toNat ∧ double.word s r % 9223372036854775808 = r := by
    unfold Format.word
    rw [signWeight_eq]
    cases s <;> simp <;> omega
  unfold Format.read
  simp only [signWeight_eq, binade_eq, infRung_eq, leastPlace_eq]
  rw [hw.1, hw.2]
  rw [if_neg (by omega), if_pos h2]
  cases s <;> simp

theorem read_word_zero (s : Bool) : double.read (double.word s 0) = .number s 0 (-1074) := by
  cases s <;> decide

theorem log2_mul_pow (a E : Nat) (h : a ≠ 0) : (a * 2 ^ E).log2 = a.log2 + E := by
  have hp : 0 < 2 ^ E := Nat.two_pow_pos _
  have hne : a * 2 ^ E ≠ 0 := Nat.mul_ne_zero h (by omega)
  rw [Nat.log2_eq_iff hne]
  have h1 := Nat.log2_self_le h
  have h2 : a < 2 ^ (a.log2 + 1) := Nat.lt_log2_self
  constructor
  · rw [Nat.pow_add]; exact Nat.mul_le_mul_right _ h1
  · rw [show a.log2 + E + 1 = a.log2 + 1 + E from by omega, Nat.pow_add _ (a.log2 + 1)]
    exact Nat.mul_lt_mul_of_pos_right h2 hp

/-- The nearest word of a whole number below 2^53 is read as that number. -/
theorem read_nearest (s : Bool) (a E : Nat) (h0 : a ≠ 0) (h : a < 9007199254740992) :
    double.read (double.nearest s (a * 2 ^ E) (-(E : Int))) = .number s (a * 2 ^ (52 - a.log2)) (-((52 - a.log2 : Nat) : Int)) := by
  have hp : 0 < 2 ^ E := Nat.two_pow_pos _
  have hne : a * 2 ^ E ≠ 0 := Nat.mul_ne_zero h0 (by omega)
  have hL : a.log2 ≤ 52 := by
    have : a.log2 < 53 := (Nat.log2_lt h0).2 h
    omega
  have hlo := Nat.log2_self_le h0
  have hhi : a < 2 ^ (a.log2 + 1) := Nat.lt_log2_self
  unfold Format.nearest
  rw [if_neg hne]
  simp only [leastPlace_eq, binade_eq, infRung_eq, log2_mul_pow a E h0]
  have hfb : (double.fractionBits : Int) = 52 := rfl
  have hlast : max (-(E : Int) + ((a.log2 + E : Nat) : Int) - (double.fractionBits : Int)) (-1074) = (a.log2 : Int) - 52 := by
    rw [hfb]; omega
  rw [hlast]
  have hkept : Toward.even.cut s ((a * 2 ^ E) <<< (-(E : Int) - ((a.log2 : Int) - 52)).toNat) ((a.log2 : Int) - 52 - -(E : Int)).toNat = a * 2 ^ (52 - a.log2) := by
    by_cases hE : E ≤ 52 - a.log2
    · have e1 : (-(E : Int) - ((a.log2 : Int) - 52)).toNat = 52 - a.log2 - E := by omega
      have e2 : ((a.log2 : Int) - 52 - -(E : Int)).toNat = 0 := by omega
      rw [e1, e2, Nat.shiftLeft_eq, Nat.mul_assoc, ← Nat.pow_add, show E + (52 - a.log2 - E) = 52 - a.log2 from by omega]
      have := cut_even s (a * 2 ^ (52 - a.log2)) 0
      simpa using this
    · have e1 : (-(E : Int) - ((a.log2 : Int) - 52)).toNat = 0 := by omega
      have e2 : ((a.log2 : Int) - 52 - -(E : Int)).toNat = E - (52 - a.log2) := by omega
      rw [e1, e2, Nat.shiftLeft_eq, Nat.pow_zero, Nat.mul_one]
      have e3 : a * 2 ^ E = (a * 2 ^ (52 - a.log2)) * 2 ^ (E - (52 - a.log2)) := by
        rw [Nat.mul_assoc, ← Nat.pow_add, show (52 - a.log2) + (E - (52 - a.log2)) = E from by omega]
      rw [e3]
      exact cut_even _ _ _
  rw [hkept]
  have k1 : 4503599627370496 ≤ a * 2 ^ (52 - a.log2) := by
    have : 2 ^ a.log2 * 2 ^ (52 - a.log2) = 4503599627370496 := by rw [← Nat.pow_add, show a.log2 + (52 - a.log2) = 52 from by omega]
    rw [← this]; exact Nat.mul_le_mul_right _ hlo
  have k2 : a * 2 ^ (52 - a.log2) < 9007199254740992 := by
    have : 2 ^ (a.log2 + 1) * 2 ^ (52 - a.log2) = 9007199254740992 := by rw [← Nat.pow_add, show a.log2 + 1 + (52 - a.log2) = 53 from by omega]
    rw [← this]; exact Nat.mul_lt_mul_of_pos_right hhi (Nat.two_pow_pos _)
  have e4 : ((a.log2 : Int) - 52 - -1074).toNat = a.log2 + 1022 := by omega
  rw [e4]
  generalize a * 2 ^ (52 - a.log2) = q at *
  have hr : min ((a.log2 + 1022) * 4503599627370496 + q) 9218868437227405312 = (a.log2 + 1022) * 4503599627370496 + q := Nat.min_eq_left (by omega)
  rw [hr, read_word _ _ (by omega) (by omega)]
  have e5 : 4503599627370496 + ((a.log2 + 1022) * 4503599627370496 + q) % 4503599627370496 = q := by omega
  have e6 : (-1074 + ((((a.log2 + 1022) * 4503599627370496 + q) / 4503599627370496 - 1 : Nat) : Int)) = -((52 - a.log2 : Nat) : Int) := by omega
  rw [e5, e6]

theorem whole_nearest (s : Bool) (a E : Nat) (h : a < 9007199254740992) : Whole (double.nearest s (a * 2 ^ E) (-(E : Int))) (if s then -(a : Int) else a) := by
  by_cases h0 : a = 0
  · subst h0
    refine ⟨s, 0, 1074, ?_, ?_, Nat.le_refl _⟩
    · unfold Format.nearest
      simp only [Nat.zero_mul, if_true]
      rw [read_word_zero]; rfl
    · generalize (2 : Int) ^ 1074 = g
      cases s <;> simp [signed]
  · refine ⟨s, _, _, read_nearest s a E h0 h, ?_, by omega⟩
    cases s <;> simp [signed, Int.neg_mul]

def fOf (n : Int) : Nat := floatOfInt .f64 n

theorem whole_fOf (n : Int) (h1 : -9007199254740992 < n) (h2 : n < 9007199254740992) : Whole (fOf n) n := by
  have := whole_nearest (decide (n < 0)) n.natAbs 0 (by omega)
  simp only [Nat.pow_zero, Nat.mul_one] at this
  have e : (if decide (n < 0) = true then -(n.natAbs : Int) else (n.natAbs : Int)) = n := by
    by_cases hn : n < 0 <;> simp [hn] <;> omega
  rw [e] at this
  exact this

theorem pow_split {e E : Nat} (h : e ≤ E) : (2 : Int) ^ E = 2 ^ e * 2 ^ (E - e) := by
  rw [← Int.pow_add, show e + (E - e) = E from by omega]

theorem scaled (s : Bool) (m e E : Nat) (k : Int) (h : signed s m 0 = k * 2 ^ e) (hE : e ≤ E) : signed s m (E - e) = k * 2 ^ E := by
  rw [signed_shift, h, pow_split hE, Int.mul_assoc]

theorem two_pow_posI (E : Nat) : (0 : Int) < 2 ^ E := Int.pow_pos (by omega)

/-- How two words stand to each other, one of which stands for a whole number: by the numbers. -/
theorem order_whole {x y : Nat} {k l : Int} (hx : Whole x k) (hy : Whole y l) : double.order x y = some (compare k l) := by
  obtain ⟨s, m, e, hr, hv, _⟩ := hx
  obtain ⟨t, n, f, hr', hv', _⟩ := hy
  unfold Format.order
  rw [hr, hr']
  simp only [Datum.order]
  have hb : min (-(e : Int)) (-(f : Int)) = -((max e f : Nat) : Int) := by omega
  rw [hb]
  have e1 : (-(e : Int) - -((max e f : Nat) : Int)).toNat = max e f - e := by omega
  have e2 : (-(f : Int) - -((max e f : Nat) : Int)).toNat = max e f - f := by omega
  rw [e1, e2, scaled s m e _ k hv (Nat.le_max_left _ _), scaled t n f _ l hv' (Nat.le_max_right _ _)]
  have hp := two_pow_posI (max e f)
  congr 1
  simp only [compare, compareOfLessAndEq]
  by_cases h1 : k < l
  · rw [if_pos h1, if_pos (Int.mul_lt_mul_of_pos_right h1 hp)]
  · rw [if_neg h1, if_neg (by intro hh; exact h1 (Int.lt_of_mul_lt_mul_right hh (Int.le_of_lt hp)))]
    by_cases h2 : k = l
    · rw [if_pos h2, if_pos (by rw [h2])]
    · rw [if_neg h2, if_neg (by intro hh; exact h2 (Int.eq_of_mul_eq_mul_right (by omega) hh))]

theorem whole_write_total (c : Bool) (t : Int) (E : Nat) (h1 : -9007199254740992 < t) (h2 : t < 9007199254740992) :
    Whole (double.write (.number (if t * 2 ^ E = 0 then c else decide (t * 2 ^ E < 0)) (t * 2 ^ E).natAbs (-(E : Int)))) t := by
  have hp := two_pow_posI E
  have hn : (t * 2 ^ E).natAbs = t.natAbs * 2 ^ E := by
    rw [Int.natAbs_mul]; congr 1
  rw [hn]
  have hw := fun s => whole_nearest s t.natAbs E (by omega)
  show Whole (double.nearest _ _ _) t
  by_cases h0 : t = 0
  · have := hw c
    subst h0
    simp only [Int.zero_mul, if_true] at this ⊢
    revert this
    cases c <;> simp
  · have hz : t * 2 ^ E ≠ 0 := Int.mul_ne_zero h0 (by omega)
    rw [if_neg hz]
    have e : decide (t * 2 ^ E < 0) = decide (t < 0) := by
      by_cases hlt : t < 0
      · simp [hlt, Int.mul_neg_of_neg_of_pos hlt hp]
      · have : 0 ≤ t * 2 ^ E := Int.mul_nonneg (by omega) (by omega)
        simp [hlt]; omega
    rw [e]
    have := hw (decide (t < 0))
    have e2 : (if decide (t < 0) = true then -(t.natAbs : Int) else (t.natAbs : Int)) = t := by
      by_cases hn : t < 0 <;> simp [hn] <;> omega
    rw [e2] at this
    exact this

def addB (x y : Nat) : Nat := (double.add x y).getD 0
def subB (x y : Nat) : Nat := (double.sub x y).getD 0

theorem add_whole {x y : Nat} {k l : Int} (hx : Whole x k) (hy : Whole y l) (h1 : -9007199254740992 < k + l) (h2 : k + l < 9007199254740992) :
    double.add x y = some (addB x y) ∧ Whole (addB x y) (k + l) := by
  obtain ⟨s, m, e, hr, hv, _⟩ := hx
  obtain ⟨t, n, f, hr', hv', _⟩ := hy
  have hs : ∃ c, double.add x y = some (double.write (.number (if (k + l) * 2 ^ (max e f) = 0 then c else decide ((k + l) * 2 ^ (max e f) < 0)) ((k + l) * 2 ^ (max e f)).natAbs (-((max e f : Nat) : Int)))) := by
    refine ⟨s && t, ?_⟩
    unfold Format.add
    rw [hr, hr']
    simp only [Datum.sum, Option.map_some]
    have hb : min (-(e : Int)) (-(f : Int)) = -((max e f : Nat) : Int) := by omega
    rw [hb]
    have e1 : (-(e : Int) - -((max e f : Nat) : Int)).toNat = max e f - e := by omega
    have e2 : (-(f : Int) - -((max e f : Nat) : Int)).toNat = max e f - f := by omega
    rw [e1, e2, scaled s m e _ k hv (Nat.le_max_left _ _), scaled t n f _ l hv' (Nat.le_max_right _ _), ← Int.add_mul]
  obtain ⟨c, hs⟩ := hs
  have : addB x y = double.write (.number (if (k + l) * 2 ^ (max e f) = 0 then c else decide ((k + l) * 2 ^ (max e f) < 0)) ((k + l) * 2 ^ (max e f)).natAbs (-((max e f : Nat) : Int))) := by
    unfold addB; rw [hs]; rfl
  rw [this]
  exact ⟨hs, whole_write_total c (k + l) _ h1 h2⟩

theorem signed_not (s : Bool) (m u : Nat) : signed (!s) m u = -signed s m u := by cases s <;> simp [signed]

theorem sub_whole {x y : Nat} {k l : Int} (hx : Whole x k) (hy : Whole y l) (h1 : -9007199254740992 < k - l) (h2 : k - l < 9007199254740992) :
    double.sub x y = some (subB x y) ∧ Whole (subB x y) (k - l) := by
  obtain ⟨s, m, e, hr, hv, _⟩ := hx
  obtain ⟨t, n, f, hr', hv', _⟩ := hy
  have hs : ∃ c, double.sub x y = some (double.write (.number (if (k - l) * 2 ^ (max e f) = 0 then c else decide ((k - l) * 2 ^ (max e f) < 0)) ((k - l) * 2 ^ (max e f)).natAbs (-((max e f : Nat) : Int)))) := by
    refine ⟨s && !t, ?_⟩
    unfold Format.sub
    rw [hr, hr']
    simp only [Datum.opposite, Datum.sum, Option.map_some]
    have hb : min (-(e : Int)) (-(f : Int)) = -((max e f : Nat) : Int) := by omega
    rw [hb]
    have e1 : (-(e : Int) - -((max e f : Nat) : Int)).toNat = max e f - e := by omega
    have e2 : (-(f : Int) - -((max e f : Nat) : Int)).toNat = max e f - f := by omega
    rw [e1, e2, scaled s m e _ k hv (Nat.le_max_left _ _), signed_not, scaled t n f _ l hv' (Nat.le_max_right _ _)]
    rw [show k * 2 ^ max e f + -(l * 2 ^ max e f) = (k - l) * 2 ^ max e f from by rw [Int.sub_mul]; omega]
  obtain ⟨c, hs⟩ := hs
  have : subB x y = double.write (.number (if (k - l) * 2 ^ (max e f) = 0 then c else decide ((k - l) * 2 ^ (max e f) < 0)) ((k - l) * 2 ^ (max e f)).natAbs (-((max e f : Nat) : Int))) := by
    unfold subB; rw [hs]; rfl
  rw [this]
  exact ⟨hs, whole_write_total c (k - l) _ h1 h2⟩


/-- What a word is that is read as a number: subnormal (or a zero), or with a full significand. -/
theorem read_number {x : Nat} {s : Bool} {m : Nat} {i : Int} (h : double.read x = .number s m i) : i = -1074 ∨ (4503599627370496 ≤ m ∧ -1074 ≤ i) := by
  unfold Format.read at h
  simp only [signWeight_eq, binade_eq, infRung_eq, leastPlace_eq] at h
  split at h
  · cases h; exact Or.inl rfl
  · split at h
    · cases h; exact Or.inr ⟨by omega, by omega⟩
    · split at h <;> cases h

def geB (x : Nat) : Bool := double.order x 0 == some .gt || double.order x 0 == some .eq
def leB (x : Nat) : Bool := double.order x 4832362400168542208 == some .lt || double.order x 4832362400168542208 == some .eq
def toI (x : Nat) : Int := ((double.read x).toInt .zero).getD 0
def truncB (x : Nat) : Nat := double.write ((double.read x).integral .zero)
def eqB (x y : Nat) : Bool := double.order x y == some .eq
def partB (x : Nat) : Bool := geB x && leB x && eqB (truncB x) x

theorem read_zero : double.read 0 = .number false 0 (-1074) := by decide
theorem read_most : double.read 4832362400168542208 = .number false 4503599627370496 (-2) := by decide

/-- What passes both bounds. -/
structure Within (x : Nat) (s : Bool) (m e : Nat) : Prop where
  rd : double.read x = .number s m (-(e : Int))
  lo : 2 ≤ e
  hi : e ≤ 1074
  sg : s = true → m = 0
  le : m ≤ 1125899906842624 * 2 ^ e

theorem compare_gt_or_eq (a b : Int) : (some (compare a b) == some Ordering.gt || some (compare a b) == some Ordering.eq) = decide (b ≤ a) := by
  simp only [compare, compareOfLessAndEq]
  by_cases h1 : a < b
  · simp [h1]; 
  · by_cases h2 : a = b
    · simp [h2]
    · simp [h1, h2]; omega

theorem compare_lt_or_eq (a b : Int) : (some (compare a b) == some Ordering.lt || some (compare a b) == some Ordering.eq) = decide (a ≤ b) := by
  simp only [compare, compareOfLessAndEq]
  by_cases h1 : a < b
  · simp [h1]; omega
  · by_cases h2 : a = b
    · simp [h2]
    · simp [h1, h2]; omega

theorem compare_eq (a b : Int) : (some (compare a b) == some Ordering.eq) = decide (a = b) := by
  simp only [compare, compareOfLessAndEq]
  by_cases h1 : a < b
  · simp [h1]; omega
  · by_cases h2 : a = b
    · simp [h2]
    · simp [h1, h2]

theorem within_of {x : Nat} (hg : geB x = true) (hl : leB x = true) : ∃ s m e, Within x s m e := by
  unfold geB Format.order at hg
  unfold leB Format.order at hl
  rw [read_zero] at hg
  rw [read_most] at hl
  cases hr : double.read x with
  | nan a b => rw [hr] at hg; simp [Datum.order] at hg
  | infinity s => rw [hr] at hg hl; cases s <;> simp [Datum.order] at hg hl
  | number s m i =>
    rw [hr] at hg hl
    simp only [Datum.order] at hg hl
    rw [compare_gt_or_eq, decide_eq_true_eq] at hg
    rw [compare_lt_or_eq, decide_eq_true_eq] at hl
    have hn := read_number hr
    have z : ∀ u, signed false 0 u = 0 := fun u => by simp [signed]
    rw [z, signed_shift] at hg
    have hg' : 0 ≤ signed s m 0 := by
      have hp := two_pow_posI (i - min i (-1074)).toNat
      by_cases hh : 0 ≤ signed s m 0
      · exact hh
      · have := Int.mul_neg_of_neg_of_pos (show signed s m 0 < 0 by omega) hp
        omega
    have hsg : s = true → m = 0 := by
      intro hs; subst hs; simp [signed] at hg'; omega
    have hi : i ≤ -2 := by
      by_cases hh : i ≤ -2
      · exact hh
      · rcases hn with h1 | ⟨h1, _⟩
        · omega
        · have hs : s = false := by cases s <;> simp_all
          subst hs
          rw [Int.min_eq_right (by omega)] at hl
          rw [signed_shift] at hl
          have e1 : ((-2 : Int) - -2).toNat = 0 := by omega
          rw [e1] at hl
          have e2 : (i - -2).toNat = (i + 1).toNat + 1 := by omega
          rw [e2, Int.pow_succ] at hl
          have hp := two_pow_posI (i + 1).toNat
          simp only [signed, Nat.shiftLeft_zero] at hl
          have : (m : Int) * 1 ≤ (m : Int) * 2 ^ (i + 1).toNat := Int.mul_le_mul_of_nonneg_left (by omega) (by omega)
          simp at hl
          rw [← Int.mul_assoc] at hl
          omega
    refine ⟨s, m, (-i).toNat, ?_, by omega, by omega, hsg, ?_⟩
    · rw [hr]; congr 1; omega
    · rw [Int.min_eq_left hi] at hl
      have e1 : (i - i).toNat = 0 := by omega
      rw [e1, signed_shift false _ (-2 - i).toNat] at hl
      have e2 : (-2 - i).toNat + 2 = (-i).toNat := by omega
      by_cases hs : s = true
      · rw [hsg hs]; exact Nat.zero_le _
      · have hs : s = false := (Bool.eq_false_iff.2 hs)
        subst hs
        simp only [signed, Nat.shiftLeft_zero] at hl
        have : (m : Int) ≤ ((4503599627370496 * 2 ^ (-2 - i).toNat : Nat) : Int) := by simpa using hl
        have h3 : m ≤ 4503599627370496 * 2 ^ (-2 - i).toNat := by omega
        rw [← e2, Nat.pow_add]
        omega

theorem Within.toInt {x : Nat} {s : Bool} {m e : Nat} (h : Within x s m e) : (double.read x).toInt .zero = some ((m / 2 ^ e : Nat) : Int) := by
  rw [h.rd]
  simp only [Datum.toInt, Datum.integral, cut_zero]
  have e1 : (-(e : Int)).toNat = 0 := by omega
  have e2 : (- -(e : Int)).toNat = e := by omega
  rw [e1, e2, Nat.shiftLeft_zero]
  cases hs : s with
  | false => simp [signed]
  | true => have := h.sg hs; subst this; simp [signed]

theorem Within.toI {x : Nat} {s : Bool} {m e : Nat} (h : Within x s m e) : toI x = ((m / 2 ^ e : Nat) : Int) := by
  unfold Fl.toI; rw [h.toInt]; rfl

theorem Within.bound {x : Nat} {s : Bool} {m e : Nat} (h : Within x s m e) : m / 2 ^ e ≤ 1125899906842624 :=
  Nat.div_le_of_le_mul (by have := h.le; rw [Nat.mul_comm]; exact this)

theorem Within.trunc {x : Nat} {s : Bool} {m e : Nat} (h : Within x s m e) : Whole (truncB x) ((m / 2 ^ e : Nat) : Int) := by
  have hb := h.bound
  unfold truncB
  rw [h.rd]
  simp only [Datum.integral, cut_zero]
  have e1 : (-(e : Int)).toNat = 0 := by omega
  have e2 : (- -(e : Int)).toNat = e := by omega
  rw [e1, e2, Nat.shiftLeft_zero]
  have := whole_nearest s (m / 2 ^ e) 0 (by omega)
  simp only [Nat.pow_zero, Nat.mul_one] at this
  have e3 : (if s = true then -((m / 2 ^ e : Nat) : Int) else ((m / 2 ^ e : Nat) : Int)) = ((m / 2 ^ e : Nat) : Int) := by
    cases hs : s with
    | false => simp
    | true => have := h.sg hs; subst this; simp
  rw [e3] at this
  exact this

/-- Whether a word that stands for k equals one that is within the bounds. -/
theorem Within.eqL {x y : Nat} {s : Bool} {m e : Nat} {k : Int} (h : Within x s m e) (hy : Whole y k) : eqB y x = decide (k * 2 ^ e = m) := by
  obtain ⟨t, n, f, hr', hv', _⟩ := hy
  have hsm : signed s m 0 = m := by
    cases hs : s with
    | false => simp [signed]
    | true => have := h.sg hs; subst this; simp [signed]
  unfold eqB Format.order
  rw [h.rd, hr']
  simp only [Datum.order]
  rw [compare_eq]
  have hb : min (-(f : Int)) (-(e : Int)) = -((max e f : Nat) : Int) := by omega
  rw [hb]
  have e1 : (-(e : Int) - -((max e f : Nat) : Int)).toNat = max e f - e := by omega
  have e2 : (-(f : Int) - -((max e f : Nat) : Int)).toNat = max e f - f := by omega
  rw [e1, e2, scaled t n f _ k hv' (Nat.le_max_right _ _), signed_shift, hsm, pow_split (Nat.le_max_left e f), ← Int.mul_assoc]
  have hp := two_pow_posI (max e f - e)
  congr 1
  apply propext
  constructor
  · intro hh; exact Int.eq_of_mul_eq_mul_right (by omega) hh
  · intro hh; rw [hh]

theorem order_swap_eq (x y : Nat) : eqB x y = eqB y x := by
  unfold eqB Format.order
  generalize double.read x = a
  generalize double.read y = b
  cases a <;> cases b <;> simp only [Datum.order]
  · rename_i s m i t n j
    rw [compare_eq, compare_eq, Int.min_comm]
    congr 1; apply propext; exact ⟨fun h => h.symm, fun h => h.symm⟩
  · rename_i t; cases t <;> rfl
  · rename_i t _ _ _; cases t <;> rfl
  · rename_i s t; cases s <;> cases t <;> rfl

/-- The four ways in which a word stands to P1.1's parts. -/
inductive Kind (x : Nat) : Prop
  | low (h : geB x = false)
  | high (h : geB x = true) (h2 : leB x = false)
  | broken (h : geB x = true) (h2 : leB x = true) (h3 : eqB (truncB x) x = false) (h4 : eqB x (fOf (toI x)) = false) (h5 : 0 ≤ toI x) (h6 : toI x ≤ 1125899906842624) (h7 : (double.read x).toInt .zero = some (toI x))
  | whole (h : geB x = true) (h2 : leB x = true) (h3 : eqB (truncB x) x = true) (h4 : eqB x (fOf (toI x)) = true) (h5 : 0 ≤ toI x) (h6 : toI x ≤ 1125899906842624) (h7 : (double.read x).toInt .zero = some (toI x)) (h8 : Whole x (toI x))

theorem kind (x : Nat) : Kind x := by
  cases hg : geB x with
  | false => exact .low hg
  | true =>
    cases hl : leB x with
    | false => exact .high hg hl
    | true =>
      obtain ⟨s, m, e, hw⟩ := within_of hg hl
      have hb := hw.bound
      have ht := hw.eqL hw.trunc
      have hi := hw.toInt
      have hi2 := hw.toI
      generalize m / 2 ^ e = q at hb ht hi hi2
      have hf := hw.eqL (whole_fOf (q : Int) (by omega) (by omega))
      rw [← hi2] at hi ht hf
      rw [order_swap_eq] at hf
      have h5 : 0 ≤ toI x := by omega
      have h6 : toI x ≤ 1125899906842624 := by omega
      by_cases hk : Fl.toI x * 2 ^ e = m
      · refine .whole hg hl (by rw [ht]; simpa using hk) (by rw [hf]; simpa using hk) h5 h6 hi ⟨s, m, e, hw.rd, ?_, hw.hi⟩
        rw [hk]
        cases hs : s with
        | false => simp [signed]
        | true => have := hw.sg hs; subst this; simp [signed]
      · exact .broken hg hl (by rw [ht]; simpa using hk) (by rw [hf]; simpa using hk) h5 h6 hi

/-- Of a word that stands for a whole number. -/
theorem whole_toInt {x : Nat} {k : Int} (h : Whole x k) : (double.read x).toInt .zero = some k := by
  obtain ⟨s, m, e, hr, hv, _⟩ := h
  rw [hr]
  simp only [Datum.toInt, Datum.integral, cut_zero]
  have e1 : (-(e : Int)).toNat = 0 := by omega
  have e2 : (- -(e : Int)).toNat = e := by omega
  rw [e1, e2, Nat.shiftLeft_zero]
  have hp := two_pow_posI e
  cases s with
  | false =>
    simp only [signed, Nat.shiftLeft_zero] at hv ⊢
    simp at hv ⊢
    rw [hv]; exact Int.mul_ediv_cancel _ (by omega)
  | true =>
    simp only [signed, Nat.shiftLeft_zero] at hv ⊢
    simp at hv ⊢
    have : (m : Int) = (-k) * 2 ^ e := by rw [Int.neg_mul]; omega
    rw [this, Int.mul_ediv_cancel _ (by omega)]; omega

theorem whole_zero : Whole 0 0 := ⟨false, 0, 1074, read_zero, by generalize (2 : Int) ^ 1074 = g; simp [signed], Nat.le_refl _⟩
theorem whole_most : Whole 4832362400168542208 1125899906842624 := ⟨false, _, 2, read_most, by decide, by omega⟩

theorem whole_ge {x : Nat} {k : Int} (h : Whole x k) : geB x = decide (0 ≤ k) := by
  unfold geB; rw [order_whole h whole_zero, compare_gt_or_eq]
theorem whole_le {x : Nat} {k : Int} (h : Whole x k) : leB x = decide (k ≤ 1125899906842624) := by
  unfold leB; rw [order_whole h whole_most, compare_lt_or_eq]
theorem whole_eq {x y : Nat} {k l : Int} (h : Whole x k) (h' : Whole y l) : eqB x y = decide (k = l) := by
  unfold eqB; rw [order_whole h h', compare_eq]

theorem whole_unique {x : Nat} {k l : Int} (h : Whole x k) (h' : Whole x l) : k = l := by
  have := whole_toInt h; rw [whole_toInt h'] at this; cases this; rfl

/-- A word that stands for a whole number is a part just where that number is within the bounds. -/
theorem whole_part {x : Nat} {k : Int} (h : Whole x k) : partB x = decide (0 ≤ k ∧ k ≤ 1125899906842624) := by
  unfold partB
  rw [whole_ge h, whole_le h]
  by_cases h0 : 0 ≤ k
  · by_cases h1 : k ≤ 1125899906842624
    · have hk := kind x
      have ht : toI x = k := by unfold toI; rw [whole_toInt h]; rfl
      cases hk with
      | low a => rw [whole_ge h] at a; simp at a; omega
      | high a b => rw [whole_le h] at b; simp at b; omega
      | broken a b c d e f g =>
        rw [ht] at d
        rw [whole_eq h (whole_fOf k (by omega) (by omega))] at d
        simp at d
      | whole a b c d e f g i => simp [h0, h1, c]
    · simp [h1]
  · simp [h0]

/-- What the built-in min answers. -/
def minB (x y : Nat) : Nat := match double.order x y with
  | some .lt => x
  | some .gt => y
  | some .eq => if (double.read x).neg then x else y
  | none => 0

theorem min_whole {x y : Nat} {k l : Int} (h : Whole x k) (h' : Whole y l) : Whole (minB x y) (min k l) := by
  unfold minB
  rw [order_whole h h']
  simp only [compare, compareOfLessAndEq]
  by_cases h1 : k < l
  · rw [if_pos h1, Int.min_eq_left (by omega)]; exact h
  · rw [if_neg h1]
    by_cases h2 : k = l
    · subst h2
      rw [if_pos rfl, Int.min_self]
      show Whole (if _ then x else y) k
      split
      · exact h
      · exact h'
    · rw [if_neg h2, Int.min_eq_right (by omega)]; exact h'

theorem toIntVal_whole {x : Nat} {k : Int} (h : Whole x k) (h1 : -9223372036854775808 ≤ k) (h2 : k ≤ 9223372036854775807) : floatToIntVal .f64 x .i64 = some k := by
  have hr : (FloatKind.f64.decode x).toInt .zero = some k := whole_toInt h
  unfold floatToIntVal
  rw [hr]
  have : IntKind.i64.min ≤ k ∧ k ≤ IntKind.i64.max := ⟨h1, h2⟩
  simp only [if_pos this]

theorem toIntVal_of {x : Nat} {k : Int} (h : (double.read x).toInt .zero = some k) (h1 : -9223372036854775808 ≤ k) (h2 : k ≤ 9223372036854775807) : floatToIntVal .f64 x .i64 = some k := by
  have hr : (FloatKind.f64.decode x).toInt .zero = some k := h
  unfold floatToIntVal
  rw [hr]
  have : IntKind.i64.min ≤ k ∧ k ≤ IntKind.i64.max := ⟨h1, h2⟩
  simp only [if_pos this]

end Go.Proofs.Ytmihmngfmlmndaa.Fl
