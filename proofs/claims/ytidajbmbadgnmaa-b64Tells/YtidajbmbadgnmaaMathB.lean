/- Plain mathematics of the reference's Decode, by groups of four. -/
import Derived.Test.YtidajbmbadgnmaaMath
namespace Go.Proofs.Ytidajbmbadgnmaa.Bm

/-- The six bits of a sign; 0, where it is none. -/
def vv (c : UInt8) : Nat := if val c < 64 then val c else 0
theorem vv_lt (c : UInt8) : vv c < 64 := by unfold vv; split <;> omega
/-- What the first j of a group make: their bits, and the place of the first that is none. -/
def gW (s : List UInt8) : Nat → Nat
  | 0 => 0
  | j + 1 => gW s j * 64 + vv (s.getD j 0)
def gN (s : List UInt8) : Nat → Nat
  | 0 => 4
  | j + 1 => if val (s.getD j 0) < 64 then gN s j else min (gN s j) j
theorem gW_lt (s : List UInt8) : ∀ j, gW s j < 64 ^ j
  | 0 => by simp [gW]
  | j + 1 => by
    have := gW_lt s j
    have := vv_lt (s.getD j 0)
    rw [gW, Nat.pow_succ]
    omega
theorem gN_le (s : List UInt8) : ∀ j, gN s j ≤ 4
  | 0 => by simp [gN]
  | j + 1 => by
    have := gN_le s j
    rw [gN]
    split <;> omega
def gB (s : List UInt8) : List UInt8 := [UInt8.ofNat (gW s 4 / 65536), UInt8.ofNat (gW s 4 / 256 % 256), UInt8.ofNat (gW s 4 % 256)]
def rOut : List UInt8 → Option (List UInt8)
  | p :: q :: r :: t :: l => if gN [p, q, r, t] 4 < 2 then none else (rOut l).map ((gB [p, q, r, t]).take (gN [p, q, r, t] 4 - 1) ++ ·)
  | _ => some []
theorem rOut_four (p q r t : UInt8) (l : List UInt8) : rOut (p :: q :: r :: t :: l) = if gN [p, q, r, t] 4 < 2 then none else (rOut l).map ((gB [p, q, r, t]).take (gN [p, q, r, t] 4 - 1) ++ ·) := by
  rw [rOut]
theorem rOut_nil : rOut [] = some [] := by rw [rOut]; intros; contradiction

theorem gN_four (p q r t : UInt8) : gN [p, q, r, t] 4 =
    if val t < 64 then (if val r < 64 then (if val q < 64 then (if val p < 64 then 4 else min 4 0) else min (if val p < 64 then 4 else min 4 0) 1) else min (if val q < 64 then (if val p < 64 then 4 else min 4 0) else min (if val p < 64 then 4 else min 4 0) 1) 2)
    else min (if val r < 64 then (if val q < 64 then (if val p < 64 then 4 else min 4 0) else min (if val p < 64 then 4 else min 4 0) 1) else min (if val q < 64 then (if val p < 64 then 4 else min 4 0) else min (if val p < 64 then 4 else min 4 0) 1) 2) 3 := rfl
theorem gW_four (p q r t : UInt8) : gW [p, q, r, t] 4 = (((0 * 64 + vv p) * 64 + vv q) * 64 + vv r) * 64 + vv t := rfl
theorem vv_sgn (n : Nat) (h : n < 64) : vv (sgn n) = n := by unfold vv; rw [val_sgn n h, if_pos h]
theorem vv_pad : vv 61 = 0 := by unfold vv; rw [val_pad]; rfl
theorem bytes_of (a b c : UInt8) {W : Nat} (h : W = a.toNat * 65536 + b.toNat * 256 + c.toNat) :
    [UInt8.ofNat (W / 65536), UInt8.ofNat (W / 256 % 256), UInt8.ofNat (W % 256)] = [a, b, c] := by
  have := a.toNat_lt
  have := b.toNat_lt
  have := c.toNat_lt
  rw [ofNat_of a (by omega), ofNat_of b (by omega), ofNat_of c (by omega)]

theorem enc0 : enc [] = [] := by rw [enc, core0]; rfl
theorem enc1 (a : UInt8) : enc [a] = [sgn (a.toNat / 4), sgn (a.toNat % 4 * 16), 61, 61] := by rw [enc, core1]; rfl
theorem enc2 (a b : UInt8) : enc [a, b] = [sgn (a.toNat / 4), sgn (a.toNat % 4 * 16 + b.toNat / 16), sgn (b.toNat % 16 * 4), 61] := by rw [enc, core2]; rfl
theorem enc3 (a b c : UInt8) (r : List UInt8) : enc (a :: b :: c :: r) = [sgn (a.toNat / 4), sgn (a.toNat % 4 * 16 + b.toNat / 16), sgn (b.toNat % 16 * 4 + c.toNat / 64), sgn (c.toNat % 64)] ++ enc r := by
  rw [show a :: b :: c :: r = [a, b, c] ++ r from rfl, enc_join _ _ (by simp)]
  rw [show enc [a, b, c] = [sgn (a.toNat / 4), sgn (a.toNat % 4 * 16 + b.toNat / 16), sgn (b.toNat % 16 * 4 + c.toNat / 64), sgn (c.toNat % 64)] by rw [enc, core3, core0, padTo_none (by simp)]]

theorem rOut_enc : ∀ y : List UInt8, rOut (enc y) = some y := by
  apply by3
  · rw [enc0, rOut_nil]
  · intro a
    have := a.toNat_lt
    have h1 := val_sgn (a.toNat / 4) (by omega)
    have h2 := val_sgn (a.toNat % 4 * 16) (by omega)
    have w1 := vv_sgn (a.toNat / 4) (by omega)
    have w2 := vv_sgn (a.toNat % 4 * 16) (by omega)
    have hn : gN [sgn (a.toNat / 4), sgn (a.toNat % 4 * 16), 61, 61] 4 = 2 := by
      rw [gN_four, h1, h2, val_pad]
      simp only [if_pos (show a.toNat / 4 < 64 by omega), if_pos (show a.toNat % 4 * 16 < 64 by omega), if_neg (show ¬ 64 < 64 by omega)]
      rfl
    rw [enc1, rOut_four, hn, if_neg (by omega), rOut_nil, gB, gW_four, w1, w2, vv_pad, bytes_of a 0 0 (by show _ = _ + 0 * 256 + 0; omega)]
    rfl
  · intro a b
    have := a.toNat_lt
    have := b.toNat_lt
    have h1 := val_sgn (a.toNat / 4) (by omega)
    have h2 := val_sgn (a.toNat % 4 * 16 + b.toNat / 16) (by omega)
    have h3 := val_sgn (b.toNat % 16 * 4) (by omega)
    have w1 := vv_sgn (a.toNat / 4) (by omega)
    have w2 := vv_sgn (a.toNat % 4 * 16 + b.toNat / 16) (by omega)
    have w3 := vv_sgn (b.toNat % 16 * 4) (by omega)
    have hn : gN [sgn (a.toNat / 4), sgn (a.toNat % 4 * 16 + b.toNat / 16), sgn (b.toNat % 16 * 4), 61] 4 = 3 := by
      rw [gN_four, h1, h2, h3, val_pad]
      simp only [if_pos (show a.toNat / 4 < 64 by omega), if_pos (show a.toNat % 4 * 16 + b.toNat / 16 < 64 by omega), if_pos (show b.toNat % 16 * 4 < 64 by omega), if_neg (show ¬ 64 < 64 by omega)]
      rfl
    rw [enc2, rOut_four, hn, if_neg (by omega), rOut_nil, gB, gW_four, w1, w2, w3, vv_pad, bytes_of a b 0 (by show _ = _ + 0; omega)]
    rfl
  · intro a b c r ih
    have := a.toNat_lt
    have := b.toNat_lt
    have := c.toNat_lt
    have h1 := val_sgn (a.toNat / 4) (by omega)
    have h2 := val_sgn (a.toNat % 4 * 16 + b.toNat / 16) (by omega)
    have h3 := val_sgn (b.toNat % 16 * 4 + c.toNat / 64) (by omega)
    have h4 := val_sgn (c.toNat % 64) (by omega)
    have w1 := vv_sgn (a.toNat / 4) (by omega)
    have w2 := vv_sgn (a.toNat % 4 * 16 + b.toNat / 16) (by omega)
    have w3 := vv_sgn (b.toNat % 16 * 4 + c.toNat / 64) (by omega)
    have w4 := vv_sgn (c.toNat % 64) (by omega)
    have hn : gN [sgn (a.toNat / 4), sgn (a.toNat % 4 * 16 + b.toNat / 16), sgn (b.toNat % 16 * 4 + c.toNat / 64), sgn (c.toNat % 64)] 4 = 4 := by
      rw [gN_four, h1, h2, h3, h4]
      simp only [if_pos (show a.toNat / 4 < 64 by omega), if_pos (show a.toNat % 4 * 16 + b.toNat / 16 < 64 by omega), if_pos (show b.toNat % 16 * 4 + c.toNat / 64 < 64 by omega), if_pos (show c.toNat % 64 < 64 by omega)]
    rw [enc3, List.cons_append, List.cons_append, List.cons_append, List.cons_append, List.nil_append, rOut_four, hn, if_neg (by omega), ih, gB, gW_four, w1, w2, w3, w4, bytes_of a b c (by omega)]
    rfl

/-- The reference's answer is Decode's. -/
theorem dec_none_of {s : List UInt8} (h : rOut s = none) : dec s = none := by
  cases hd : dec s with
  | none => rfl
  | some y =>
    have := enc_dec s y hd
    rw [← this, rOut_enc] at h
    cases h
theorem dec_none_other {s o : List UInt8} (h : rOut s = some o) (he : enc o ≠ s) : dec s = none := by
  cases hd : dec s with
  | none => rfl
  | some y =>
    have hy := enc_dec s y hd
    rw [← hy, rOut_enc] at h
    injection h with h
    subst h
    exact absurd hy he
theorem dec_some_of {s o : List UInt8} (he : enc o = s) : dec s = some o := by rw [← he]; exact dec_enc o
end Go.Proofs.Ytidajbmbadgnmaa.Bm
