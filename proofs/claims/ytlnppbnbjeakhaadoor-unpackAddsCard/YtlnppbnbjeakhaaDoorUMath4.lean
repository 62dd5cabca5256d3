/- Chapter 8 over plain values: a literal with two short texts. -/
import Derived.Test.YtlnppbnbjeakhaaDoorURBlock
namespace Go.Proofs.YtlnppbnbjeakhaaDoor
open Go.RowKit

theorem get_short (x : Nat) (r : List Nat) (b : Nat) (hb1 : 1 ≤ b) (hb8 : b ≤ 8) (h : x % 2 ^ b < 2 ^ b - 1) : Pn.getI (x :: r) (b : Int) = (x % 2 ^ b, 1, 0) := by
  rw [Pn.getI, if_neg (by omega), Int.toNat_natCast, Pn.getN, if_pos (show x % 2 ^ b < Pn.full b from h)]
/-- A short text that is not packed, at its place. -/
theorem utext_short (p V r : List Nat) (hV : V.length ≤ 100) : utext (p ++ (V.length :: (V ++ r))) p.length = (V, p.length + 1 + V.length, true) := by
  have hd : (p ++ (V.length :: (V ++ r))).drop p.length = V.length :: (V ++ r) := by simp
  have hg : Pn.getI (V.length :: (V ++ r)) 7 = (V.length, 1, 0) := by
    have := get_short V.length (V ++ r) 7 (by omega) (by omega) (by rw [Nat.mod_eq_of_lt (by omega)]; omega)
    rw [Nat.mod_eq_of_lt (by omega)] at this
    exact this
  have hl : (p ++ (V.length :: (V ++ r))).length = p.length + 1 + V.length + r.length := by simp; omega
  have he : (p ++ (V.length :: (V ++ r))).getD p.length 0 = V.length := by simp
  have hd2 : (p ++ (V.length :: (V ++ r))).drop (p.length + 1) = V ++ r := by rw [← List.drop_drop, hd]; rfl
  rw [utext, if_neg (by omega), hd, hg]
  simp only [utextG]
  rw [if_neg (by omega), he, if_pos (by omega), hd2]
  simp
/-- A literal with two short texts: so it is read. -/
theorem uone_lit4 (c : Nat) (N V r : List Nat) (m : Nat) (L : List Fld) (hc : c = 64 ∨ c = 0 ∨ c = 16) (hN : N.length ≤ 100) (hV : V.length ≤ 100) :
    uone (c :: N.length :: (N ++ (V.length :: (V ++ r)))) 0 m L = ⟨⟨str N, str V, decide (c = 16)⟩, 3 + N.length + V.length, false, true, m, if c = 64 then addL m ⟨str N, str V, false⟩ L else L⟩ := by
  have h1 := utext_short [c] N (V.length :: (V ++ r)) hN
  have h2 := utext_short (c :: N.length :: N) V r hV
  simp only [List.cons_append, List.nil_append, List.length_cons, List.length_nil] at h1 h2
  have hg : Pn.getI (c :: N.length :: (N ++ (V.length :: (V ++ r)))) (ubits c : Int) = (0, 1, 0) := by
    rcases hc with rfl | rfl | rfl
    · exact get_short 64 _ 6 (by omega) (by omega) (by decide)
    · exact get_short 0 _ 4 (by omega) (by omega) (by decide)
    · exact get_short 16 _ 4 (by omega) (by omega) (by decide)
  rw [uone, show (c :: N.length :: (N ++ (V.length :: (V ++ r)))).getD 0 0 = c from rfl, List.drop_zero, hg]
  simp only [uoneG]
  have hu : uname (c :: N.length :: (N ++ (V.length :: (V ++ r)))) 0 (0 + 1) L = (str N, N.length + 2, true) := by
    rw [uname, if_neg (by omega), h1, show 0 + 1 + 1 + N.length = N.length + 2 by omega]
  rw [if_neg (by omega), if_neg (by omega), if_neg (by omega), hu, ulit]
  simp only []
  rw [if_neg (by simp), ulit2, show N.length + 2 = N.length + 1 + 1 by omega, h2]
  simp only []
  rw [if_neg (by simp)]
  rcases hc with rfl | rfl | rfl <;> simp <;> omega
/-- The three blocks: added, not added and then by its index, never. -/
theorem dec_add (N V : List Nat) (hN : N.length ≤ 100) (hV : V.length ≤ 100) :
    udec (64 :: N.length :: (N ++ (V.length :: (V ++ [])))) 100000 false 4096 [] = ⟨[⟨str N, str V, false⟩], 0, false, 4096, [⟨str N, str V, false⟩]⟩ := by
  have hs : fsize ⟨str N, str V, false⟩ ≤ 300 := by unfold fsize; simp only [str_size]; omega
  have ha : addL 4096 ⟨str N, str V, false⟩ [] = [⟨str N, str V, false⟩] := by
    rw [addL, fit_all]
    · rfl
    · simp only [tot, kept_size]; omega
  have hl : (64 :: N.length :: (N ++ (V.length :: (V ++ [])))).length = 3 + N.length + V.length := by simp; omega
  rw [udec, if_neg (by simp), hl, show 3 + N.length + V.length + 1 = (2 + N.length + V.length) + 1 + 1 by omega, ugo, if_pos (by rw [hl]; omega), uone_lit4 64 N V [] 4096 [] (.inl rfl) hN hV, show decide (64 = 16) = false from rfl]
  simp only [Bool.true_eq_false, Bool.false_eq_true, if_false, if_true, ha]
  rw [ugo, if_neg (by rw [hl]; omega), if_neg (by simp only [List.nil_append, tot]; omega)]
  simp
theorem dec_plain (N V : List Nat) (hN : N.length ≤ 100) (hV : V.length ≤ 100) :
    udec (0 :: N.length :: (N ++ (V.length :: (V ++ [190])))) 100000 false 4096 [⟨str N, str V, false⟩] = ⟨[⟨str N, str V, false⟩, ⟨str N, str V, false⟩], 0, false, 4096, [⟨str N, str V, false⟩]⟩ := by
  have hs : fsize ⟨str N, str V, false⟩ ≤ 300 := by unfold fsize; simp only [str_size]; omega
  have hl : (0 :: N.length :: (N ++ (V.length :: (V ++ [190])))).length = 4 + N.length + V.length := by simp; omega
  have hsp : (0 :: N.length :: (N ++ (V.length :: (V ++ [190])))) = (0 :: N.length :: (N ++ (V.length :: V))) ++ [190] := by simp
  have hq : (0 :: N.length :: (N ++ (V.length :: V))).length = 3 + N.length + V.length := by simp; omega
  have hi : uone (0 :: N.length :: (N ++ (V.length :: (V ++ [190])))) (3 + N.length + V.length) 4096 [⟨str N, str V, false⟩] = ⟨⟨str N, str V, false⟩, 4 + N.length + V.length, false, true, 4096, [⟨str N, str V, false⟩]⟩ := by
    have hd : (0 :: N.length :: (N ++ (V.length :: (V ++ [190])))).drop (3 + N.length + V.length) = [190] := by rw [hsp, ← hq, List.drop_left]
    have he : (0 :: N.length :: (N ++ (V.length :: (V ++ [190])))).getD (3 + N.length + V.length) 0 = 190 := by
      rw [hsp, ← hq, List.getD, List.getElem?_append_right (Nat.le_refl _)]
      simp
    have hg : Pn.getI [190] (ubits 190 : Int) = (62, 1, 0) := get_short 190 [] 7 (by omega) (by omega) (by decide)
    rw [uone, he, hd, hg]
    simp only [uoneG]
    rw [if_neg (by omega), if_pos (by omega), show ufield [⟨str N, str V, false⟩] ((62 : Nat) : Int) = (⟨str N, str V, false⟩, true) from rfl, show 3 + N.length + V.length + 1 = 4 + N.length + V.length by omega]
  rw [udec, if_neg (by simp), hl, show 4 + N.length + V.length + 1 = (2 + N.length + V.length) + 1 + 1 + 1 by omega, ugo, if_pos (by rw [hl]; omega), uone_lit4 0 N V [190] 4096 _ (.inr (.inl rfl)) hN hV]
  simp only [Bool.true_eq_false, Bool.false_eq_true, if_false]
  rw [ugo, if_pos (by rw [hl]; omega)]
  simp only [show decide (0 = 16) = false from rfl, show ((0 : Nat) = 64) = False from by simp, if_false]
  rw [hi]
  simp only [Bool.true_eq_false, Bool.false_eq_true, if_false]
  rw [ugo, if_neg (by rw [hl]; omega), if_neg (by simp only [List.nil_append, List.cons_append, tot]; omega)]
  simp
theorem dec_never (N V : List Nat) (hN : N.length ≤ 100) (hV : V.length ≤ 100) (L : List Fld) :
    udec (16 :: N.length :: (N ++ (V.length :: (V ++ [])))) 100000 false 4096 L = ⟨[⟨str N, str V, true⟩], 0, false, 4096, L⟩ := by
  have hs : fsize ⟨str N, str V, true⟩ ≤ 300 := by unfold fsize; simp only [str_size]; omega
  have hl : (16 :: N.length :: (N ++ (V.length :: (V ++ [])))).length = 3 + N.length + V.length := by simp; omega
  rw [udec, if_neg (by simp), hl, show 3 + N.length + V.length + 1 = (2 + N.length + V.length) + 1 + 1 by omega, ugo, if_pos (by rw [hl]; omega), uone_lit4 16 N V [] 4096 _ (.inr (.inr rfl)) hN hV, show decide (16 = 16) = true from rfl]
  simp only [Bool.true_eq_false, Bool.false_eq_true, if_false, show ((16 : Nat) = 64) = False from by simp]
  rw [ugo, if_neg (by rw [hl]; omega), if_neg (by simp only [List.nil_append, tot]; omega)]
  simp
theorem dec_limit (x : Fld) : udec [32] 100000 false 4096 [x] = ⟨[], 0, false, 0, []⟩ := by
  have hf : fitL 0 [x] = [] := by
    rw [fit_less 0 [x] (by simp only [tot]; unfold fsize; omega)]
    rfl
  have ho : uone [32] 0 4096 [x] = ⟨noFld, 1, true, true, 0, fitL 0 [x]⟩ := rfl
  rw [udec, if_neg (by simp), show [32].length + 1 = 1 + 1 from rfl, ugo, if_pos (by simp), ho, hf]
  rfl
theorem dec_gone : udec [190] 100000 false 0 [] = ⟨[], 2, true, 0, []⟩ := by kernel_rfl
end Go.Proofs.YtlnppbnbjeakhaaDoor
