/- The walk of DynFits. -/
import Derived.Test.YtjohchedckmadaaDUse
import Derived.Test.YtjohchedckmadaaLRowK
import Derived.BigQuiet
namespace Go.Proofs.Ytjohchedckmadaa
open Go.RowKit

/-- A table in use, and beside it a row of the law's own (what was added), apart from the table's blocks. -/
def Hasr (w : World) (p m : Nat) (l : List Fld) (v : Value) (n : Nat) (wr : World) : Prop :=
  ∃ S a, DT wr S p m l ∧ (∀ x, S x → w.heap.size ≤ x) ∧ Below w.heap.size w wr ∧ a.length = n ∧ wr.ownsRow w.heap.size 33 3 v n (cF a) ∧ (∀ k, v.ownBlock = some k → ¬ S k)
section
variable {w wr w' : World} {p m n : Nat} {l : List Fld} {v : Value}
theorem Hasr.has (h : Hasr w p m l v n wr) : Has w p m l wr := by
  obtain ⟨S, a, h1, h2, h3, _⟩ := h
  exact ⟨S, h1, h2, h3⟩
theorem Hasr.quiet (h : Hasr w p m l v n wr) (hb : Below wr.heap.size wr w') : Hasr w p m l v n w' := by
  obtain ⟨S, a, h1, h2, h3, h4, h5, h6⟩ := h
  exact ⟨S, a, h1.keep (S' := fun _ => False) (Keeps.of_below hb) (fun _ _ h => h), h2, h3.trans (hb.mono h3.size), h4, rowF_keep h5 hb, h6⟩
theorem Hasr.post {m2 : Nat} {l2 : List Fld} {S : Nat → Prop} {a : List Fld} (h2 : ∀ x, S x → w.heap.size ≤ x) (h3 : Below w.heap.size w wr) (h4 : a.length = n) (h5 : wr.ownsRow w.heap.size 33 3 v n (cF a)) (h6 : ∀ k, v.ownBlock = some k → ¬ S k) (hP : DPost S wr p m2 l2 w') : Hasr w p m2 l2 v n w' := by
  obtain ⟨S2, hT, hS2, hK⟩ := hP
  refine ⟨S2, a, hT, fun x hx => ?_, h3.trans (hK.below h2 h3.size), h4, row_keeps h5 hK h6, fun k hk hx => ?_⟩
  · rcases hS2 x hx with h | h
    · exact h2 x h
    · exact Nat.le_trans h3.size h
  · rcases hS2 k hx with h | h
    · exact h6 k hk h
    · have := (h5.lt k hk).2
      omega
theorem Hasr.add (h : Hasr w p m l v n wr) (hR : Rdy wr) (f : Fld) (hf : fsize f ≤ 46400) : Calls Try.prog 11 #[.pointer (some ⟨p, 0, none⟩), .agg #[.string f.name, .string f.value, .bool f.never]] wr fun e w' => e = .returned (.tuple #[]) ∧ Hasr w p m (addL m f l) v n w' := by
  obtain ⟨S, a, h1, h2, h3, h4, h5, h6⟩ := h
  refine (dadd_f wr S p m l f hR h1 hf).mono ?_
  rintro e w1 ⟨rfl, hP⟩
  exact ⟨rfl, Hasr.post h2 h3 h4 h5 h6 hP⟩
theorem Hasr.limit (h : Hasr w p m l v n wr) (hR : Rdy wr) (k : Nat) (hk : k ≤ 4096) (z : Int) (hz : z = (k : Int)) : Calls Try.prog 13 #[.pointer (some ⟨p, 0, none⟩), .int .i64 z] wr fun e w' => e = .returned (.int .i64 0) ∧ Hasr w p k (fitL k l) v n w' := by
  subst hz
  obtain ⟨S, a, h1, h2, h3, h4, h5, h6⟩ := h
  refine (dlimit_ok wr S p m k l hR h1 hk).mono ?_
  rintro e w1 ⟨rfl, hP⟩
  exact ⟨rfl, Hasr.post h2 h3 h4 h5 h6 hP⟩
theorem Hasr.limit_no (h : Hasr w p m l v n wr) (hR : Rdy wr) (k : Int) (hk : k < 0 ∨ 4096 < k) (hr : Rng k) : Calls Try.prog 13 #[.pointer (some ⟨p, 0, none⟩), .int .i64 k] wr fun e w' => e = .returned (.int .i64 1) ∧ Hasr w p m l v n w' := by
  obtain ⟨S, a, h1, _⟩ := id h
  refine (dlimit_no wr S p m k l hR h1 hk hr).mono ?_
  rintro e w1 ⟨rfl, hb⟩
  exact ⟨rfl, h.quiet hb⟩
/-- The row has grown by one. -/
theorem Hasr.grown {a1 : List Fld} {v2 : Value} {w2 : World} {o : Obj} {S : Nat → Prop} (h1 : DT wr S p m l) (h2 : ∀ x, S x → w.heap.size ≤ x) (h3 : Below w.heap.size w wr) (h5 : wr.ownsRow w.heap.size 33 3 v n (cF a1)) (h6 : ∀ k, v.ownBlock = some k → ¬ S k)
    (hg : (wr.alloc o).grownBy w2 v.ownBlock) (a2 : List Fld) (n2 : Nat) (h4 : a2.length = n2) (hown : w2.ownsRow w.heap.size 33 3 v2 n2 (cF a2)) (hv2 : ∀ k, v2.ownBlock = some k → v.ownBlock = some k ∨ wr.heap.size ≤ k) : Hasr w p m l v2 n2 w2 := by
  have hb : Below w.heap.size w w2 := (h3.alloc h3.size o).grown hg (by have := h3.size; simp; omega) (rowF_block h5)
  have hk : Keeps (fun x => v.ownBlock = some x) wr w2 := by
    have ha : Keeps (fun x => v.ownBlock = some x) wr (wr.alloc o) := Keeps.of_below ((Below.refl _ _).alloc (Nat.le_refl _) o)
    refine ha.trans (S' := fun x => v.ownBlock = some x) ⟨hg.os, hg.tape, hg.output, hg.size, fun k hk hn => hg.block k hk (fun e => hn e.symm)⟩ (fun x hx _ => hx)
  refine ⟨S, a2, h1.keep hk (fun x hx e => h6 x e hx), h2, hb, h4, hown, fun k hk hx => ?_⟩
  rcases hv2 k hk with h | h
  · exact h6 k h hx
  · have := h1.low k hx
    omega
end
end Go.Proofs.Ytjohchedckmadaa
