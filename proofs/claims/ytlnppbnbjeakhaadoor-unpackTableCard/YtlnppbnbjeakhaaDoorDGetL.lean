/- The table of chapter 7 over plain values: what goes in, what is driven out, what is found. -/
import Derived.Test.YtlnppbnbjeakhaaDoorSSize
namespace Go.Proofs.YtlnppbnbjeakhaaDoor
open Go.RowKit

/-- As many from the beginning on as there is room for. -/
def fitL : Nat → List Fld → List Fld
  | _, [] => []
  | m, f :: r => if fsize f ≤ m then f :: fitL (m - fsize f) r else []
theorem fit_all : ∀ (m : Nat) (l : List Fld), tot l ≤ m → fitL m l = l
  | _, [], _ => rfl
  | m, f :: r, h => by
    rw [tot] at h
    rw [fitL, if_pos (by omega), fit_all (m - fsize f) r (by omega)]
theorem fit_less : ∀ (m : Nat) (l : List Fld), m < tot l → fitL m l = fitL m l.dropLast
  | _, [], h => by simp [tot] at h
  | m, [f], h => by
    simp [tot] at h
    rw [fitL, if_neg (by omega)]
    rfl
  | m, f :: g :: r, h => by
    rw [tot] at h
    have e1 : fitL m (f :: g :: r) = if fsize f ≤ m then f :: fitL (m - fsize f) (g :: r) else [] := rfl
    have e2 : fitL m (f :: (g :: r).dropLast) = if fsize f ≤ m then f :: fitL (m - fsize f) (g :: r).dropLast else [] := rfl
    rw [List.dropLast_cons_cons, e1, e2]
    split
    · rw [fit_less (m - fsize f) (g :: r) (by omega)]
    · rfl
theorem fit_tot : ∀ (m : Nat) (l : List Fld), tot (fitL m l) ≤ m
  | _, [] => by simp [fitL, tot]
  | m, f :: r => by
    rw [fitL]
    split
    · rw [tot]
      have := fit_tot (m - fsize f) r
      omega
    · simp [tot]
theorem fit_pre : ∀ (m : Nat) (l : List Fld), ∃ k, fitL m l = l.take k
  | _, [] => ⟨0, rfl⟩
  | m, f :: r => by
    rw [fitL]
    split
    · obtain ⟨k, hk⟩ := fit_pre (m - fsize f) r
      exact ⟨k + 1, by rw [hk]; rfl⟩
    · exact ⟨0, rfl⟩
theorem fit_len (m : Nat) (l : List Fld) : (fitL m l).length ≤ l.length := by
  obtain ⟨k, hk⟩ := fit_pre m l
  rw [hk, List.length_take]
  omega
/-- The field as it is kept. -/
def kept (f : Fld) : Fld := ⟨f.name, f.value, false⟩
theorem kept_size (f : Fld) : fsize (kept f) = fsize f := rfl
/-- The table with one field more. -/
def addL (m : Nat) (f : Fld) (l : List Fld) : List Fld := fitL m (kept f :: l)
/-- Found among the places from i on: both, the name (from 1; 0: none). -/
def fndL (n v : List UInt8) : List Fld → Nat → Nat × Nat
  | [], _ => (0, 0)
  | f :: r, i => if f.name.toList == n then (if f.value.toList == v then (i + 1, i + 1) else ((fndL n v r (i + 1)).1, i + 1)) else fndL n v r (i + 1)
theorem dropLast_take (l : List Fld) (j : Nat) (h : j + 1 ≤ l.length) : (l.take (j + 1)).dropLast = l.take j := by
  rw [List.dropLast_eq_take, List.length_take, List.take_take]
  congr 1
  omega
theorem tot_pos (l : List Fld) : 32 * l.length ≤ tot l := by
  induction l with
  | nil => simp
  | cons x r ih => rw [tot, List.length_cons]; unfold fsize; omega
end Go.Proofs.YtlnppbnbjeakhaaDoor
/- The i-th field of a list, from 1 on; what a call that answers a field and a bool hands back. -/
namespace Go.Proofs.YtlnppbnbjeakhaaDoor
open Go.RowKit
/-- The i-th, from 1 on. -/
def getL (l : List Fld) (i : Int) : Fld × Bool := if 1 ≤ i ∧ i ≤ (l.length : Int) then (l.getD (i.toNat - 1) ⟨⟨#[]⟩, ⟨#[]⟩, false⟩, true) else (⟨⟨#[]⟩, ⟨#[]⟩, false⟩, false)
def FPost (w : World) (s : Fld × Bool) (e : Ending) (w' : World) : Prop := e = .returned (.tuple #[.agg #[.string s.1.name, .string s.1.value, .bool s.1.never], .bool s.2]) ∧ Below w.heap.size w w'
end Go.Proofs.YtlnppbnbjeakhaaDoor
