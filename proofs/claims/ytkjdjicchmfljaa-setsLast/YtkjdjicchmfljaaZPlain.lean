/- Chapter 13 over whole numbers: settings applied one behind the other. -/
namespace Zs

structure St where
  table : Int
  push : Int
  streams : Int
  window : Int
  frame : Int
  list : Int
def zeroSt : St := ⟨0, 0, 0, 0, 0, 0⟩
def firstSt : St := ⟨4096, 1, 2147483647, 65535, 16384, 2147483647⟩
structure Flt where
  bad : Bool
  conn : Bool
  code : Nat
def noFlt : Flt := ⟨false, false, 0⟩
/-- MaxPint at most. -/
def cap (v : Int) : Int := if 2147483647 < v then 2147483647 else v
/-- One setting: what holds then, or the code of what is wrong. -/
def one (s : St) (x : Int × Int) : St × Nat :=
  if x.1 = 1 then ({ s with table := cap x.2 }, 0)
  else if x.1 = 2 then (if x.2 < 0 ∨ 1 < x.2 then (zeroSt, 1) else ({ s with push := x.2 }, 0))
  else if x.1 = 3 then ({ s with streams := cap x.2 }, 0)
  else if x.1 = 4 then (if 2147483647 < x.2 then (zeroSt, 3) else ({ s with window := x.2 }, 0))
  else if x.1 = 5 then (if x.2 < 16384 ∨ 16777215 < x.2 then (zeroSt, 1) else ({ s with frame := x.2 }, 0))
  else if x.1 = 6 then ({ s with list := cap x.2 }, 0)
  else (s, 0)
def apply (s : St) : List (Int × Int) → St × Flt
  | [] => (s, noFlt)
  | x :: r => if (one s x).2 = 0 then apply (one s x).1 r else (zeroSt, ⟨true, true, (one s x).2⟩)
theorem apply_ok {s t : St} {x : Int × Int} (r : List (Int × Int)) (h : one s x = (t, 0)) : apply s (x :: r) = apply t r := by
  rw [apply, h]
  rfl
theorem apply_no {s : St} {x : Int × Int} {c : Nat} (r : List (Int × Int)) (h : one s x = (zeroSt, c)) (hc : c ≠ 0) : apply s (x :: r) = (zeroSt, ⟨true, true, c⟩) := by
  rw [apply, h]
  exact if_neg hc
theorem apply_app : ∀ (a b : List (Int × Int)) (s : St), apply s (a ++ b) = if (apply s a).2.bad = true then apply s a else apply (apply s a).1 b
  | [], b, s => by simp [apply, noFlt]
  | x :: r, b, s => by
    rw [List.cons_append, apply, apply]
    by_cases h : (one s x).2 = 0
    · rw [if_pos h, if_pos h]
      exact apply_app r b _
    · rw [if_neg h, if_neg h]
      rfl
/-- With a fault nothing is answered. -/
theorem apply_bad : ∀ (l : List (Int × Int)) (s : St), (apply s l).2.bad = true → (apply s l).1 = zeroSt ∧ (apply s l).2.conn = true
  | [], s, h => by simp [apply, noFlt] at h
  | x :: r, s, h => by
    rw [apply] at h ⊢
    by_cases h1 : (one s x).2 = 0
    · rw [if_pos h1] at h ⊢
      exact apply_bad r _ h
    · rw [if_neg h1]
      exact ⟨rfl, rfl⟩
/-- Without one the fault says nothing. -/
theorem apply_good : ∀ (l : List (Int × Int)) (s : St), (apply s l).2.bad = false → (apply s l).2 = noFlt
  | [], s, _ => rfl
  | x :: r, s, h => by
    rw [apply] at h ⊢
    by_cases h1 : (one s x).2 = 0
    · rw [if_pos h1] at h ⊢
      exact apply_good r _ h
    · rw [if_neg h1] at h
      cases h
/-- One bad setting spoils all. -/
theorem apply_spoilt (a b : List (Int × Int)) (s : St) : apply s (a ++ (2, 7) :: b) = if (apply s a).2.bad = true then apply s a else (zeroSt, ⟨true, true, 1⟩) := by
  rw [apply_app]
  by_cases h : (apply s a).2.bad = true
  · rw [if_pos h, if_pos h]
  · rw [if_neg h, if_neg h]
    exact apply_no b (by simp [one]) (by decide)
theorem drop_next {l : List (Int × Int)} {j : Nat} (h : j < l.length) : l.drop j = l[j] :: l.drop (j + 1) := List.drop_eq_getElem_cons h
end Zs
