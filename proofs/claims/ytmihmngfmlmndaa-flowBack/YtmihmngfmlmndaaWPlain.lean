/- Chapter 12 over whole numbers: windows, spent, granted, shifted. -/
namespace Fw

structure Flt where
  bad : Bool
  conn : Bool
  code : Nat
def noFlt : Flt := ⟨false, false, 0⟩
def cut (n : Int) : Int := if n < -2147483647 then -2147483647 else if 2147483647 < n then 2147483647 else n
def may (k l : Int) : Int := max (min k l) 0
def spend (k l n : Int) : Int × Int × Nat := if 0 ≤ n ∧ n ≤ may k l then (k - n, l - n, 0) else (0, 0, 1)
def grant (k l s c : Int) : Int × Int × Flt :=
  if s < 0 ∨ 2147483647 < s ∨ c < 0 ∨ 2147483647 < c then (0, 0, ⟨true, true, 1⟩)
  else if 2147483647 < l + c then (0, 0, ⟨true, true, 3⟩)
  else if 2147483647 < k + s then (0, 0, ⟨true, false, 3⟩)
  else (k + s, l + c, noFlt)
def shift (k l b : Int) : Int × Int × Flt :=
  if b < -2147483647 ∨ 2147483647 < b then (0, 0, ⟨true, true, 1⟩)
  else if 2147483647 < k + b then (0, 0, ⟨true, true, 3⟩)
  else (max (k + b) (-2147483647), l, noFlt)
/-- A window that may be. -/
def in_ (k : Int) : Prop := -2147483647 ≤ k ∧ k ≤ 2147483647
theorem cut_in {k : Int} (h : in_ k) : cut k = k := by
  unfold in_ at h
  rw [cut, if_neg (by omega), if_neg (by omega)]
end Fw
