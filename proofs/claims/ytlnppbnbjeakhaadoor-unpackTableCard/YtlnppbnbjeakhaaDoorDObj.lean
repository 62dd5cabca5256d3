/- A row beside an object: apart from its blocks it stays. -/
import Derived.Test.YtlnppbnbjeakhaaDoorLRowF
import Derived.Test.YtlnppbnbjeakhaaDoorDGetL
import Derived.Test.YtlnppbnbjeakhaaDoorLTab
namespace Go.Proofs.YtlnppbnbjeakhaaDoor
open Go.RowKit

section
variable {wr w' : World} {v : Value} {n : Nat}
theorem row_keeps {S : Nat → Prop} {B T Z : Nat} {xs : List Value} (h : wr.ownsRow B T Z v n xs) (hk : Keeps S wr w') (hn : ∀ k, v.ownBlock = some k → ¬ S k) : w'.ownsRow B T Z v n xs := by
  refine ⟨h.1, ?_⟩
  rcases h.2 with h0 | ⟨g, cap, cur, hv, hB, hh, r⟩
  · exact .inl h0
  · refine .inr ⟨g, cap, cur, hv, hB, ?_, r⟩
    have hg : g < wr.heap.size := by
      rcases Nat.lt_or_ge g wr.heap.size with hlt | hge
      · exact hlt
      · rw [Array.getElem?_eq_none hge] at hh; cases hh
    rw [hk.block g hg (hn g (by rw [hv]; rfl)), hh]
end
end Go.Proofs.YtlnppbnbjeakhaaDoor
/- The landed table in memory: its fields, the eldest first, and its limit. -/
namespace Go.Proofs.YtlnppbnbjeakhaaDoor
open Go.RowKit

/-- The program's table lies at block p: its limit m, its fields l (which may be more than the limit says); S: the blocks that are its own. -/
def DT0 (w : World) (S : Nat → Prop) (p m : Nat) (l : List Fld) : Prop :=
  ∃ v, w.heap[p]? = some (.cells #[v, .int .i64 (m : Int)] 63 (0, 0)) ∧ w.ownsRow 0 44 3 v l.length (cF l.reverse) ∧ (∀ k, v.ownBlock = some k → k ≠ p) ∧ (∀ x, S x ↔ x = p ∨ v.ownBlock = some x) ∧ tot l ≤ 4096 ∧ m ≤ 4096
/-- The program's table lies at block p: its limit m, its fields l; S: the blocks that are its own. -/
def DT (w : World) (S : Nat → Prop) (p m : Nat) (l : List Fld) : Prop := DT0 w S p m l ∧ tot l ≤ m
section
variable {w w' w1 w2 : World} {S S' : Nat → Prop} {p m : Nat} {l : List Fld}
theorem lt_of_heap {w : World} {k : Nat} {o : Obj} (h : w.heap[k]? = some o) : k < w.heap.size := by
  rcases Nat.lt_or_ge k w.heap.size with hlt | hge
  · exact hlt
  · rw [Array.getElem?_eq_none hge] at h; cases h
theorem DT0.own (h : DT0 w S p m l) : S p := by
  obtain ⟨v, _, _, _, hS, _⟩ := h
  exact (hS p).2 (.inl rfl)
theorem DT0.low (h : DT0 w S p m l) : ∀ x, S x → x < w.heap.size := by
  obtain ⟨v, hh, ho, _, hS, _⟩ := h
  intro x hx
  rcases (hS x).1 hx with rfl | h
  · exact lt_of_heap hh
  · exact (ho.lt x h).2
theorem DT0.keep (h : DT0 w S p m l) (hk : Keeps S' w w') (hd : ∀ x, S x → ¬ S' x) : DT0 w' S p m l := by
  obtain ⟨v, hh, ho, hn, hS, hm⟩ := h
  exact ⟨v, (hk.block p (lt_of_heap hh) (hd p ((hS p).2 (.inl rfl)))).trans hh, row_keeps ho hk (fun k hk2 => hd k ((hS k).2 (.inr hk2))), hn, hS, hm⟩
theorem DT.own (h : DT w S p m l) : S p := h.1.own
theorem DT.low (h : DT w S p m l) : ∀ x, S x → x < w.heap.size := h.1.low
theorem DT.fits (h : DT w S p m l) : tot l ≤ m ∧ m ≤ 4096 := by
  obtain ⟨⟨_, _, _, _, _, _, hm⟩, ht⟩ := h
  exact ⟨ht, hm⟩
theorem DT.keep (h : DT w S p m l) (hk : Keeps S' w w') (hd : ∀ x, S x → ¬ S' x) : DT w' S p m l := ⟨h.1.keep hk hd, h.2⟩
end
/-- What a method of the program's table leaves. -/
def DPost0 (S : Nat → Prop) (w : World) (p m : Nat) (l : List Fld) (w' : World) : Prop := ∃ S', DT0 w' S' p m l ∧ (∀ x, S' x → S x ∨ w.heap.size ≤ x) ∧ Keeps S w w'
def DPost (S : Nat → Prop) (w : World) (p m : Nat) (l : List Fld) (w' : World) : Prop := ∃ S', DT w' S' p m l ∧ (∀ x, S' x → S x ∨ w.heap.size ≤ x) ∧ Keeps S w w'
theorem DPost0.fit {S : Nat → Prop} {w w' : World} {p m : Nat} {l : List Fld} (h : DPost0 S w p m l w') (ht : tot l ≤ m) : DPost S w p m l w' := by
  obtain ⟨S', h1, h2, h3⟩ := h
  exact ⟨S', ⟨h1, ht⟩, h2, h3⟩
/-- Another row and another limit are laid into the table: the row lies at its own block or at a new one. -/
theorem DT0.put {S : Nat → Prop} {w w1 : World} {p m m2 n : Nat} {l2 : List Fld} {v v2 : Value} (hh : w.heap[p]? = some (.cells #[v, .int .i64 (m : Int)] 63 (0, 0))) (hn : ∀ k, v.ownBlock = some k → k ≠ p) (hS : ∀ x, S x ↔ x = p ∨ v.ownBlock = some x)
    (hk : Keeps (fun x => v.ownBlock = some x) w w1) (ho : w1.ownsRow 0 44 3 v2 n (cF l2.reverse)) (hl : l2.length = n) (hb : ∀ k, v2.ownBlock = some k → v.ownBlock = some k ∨ w.heap.size ≤ k) (ht : tot l2 ≤ 4096) (hm : m2 ≤ 4096) (hm2 : m2 = m) :
    DPost0 S w p m2 l2 (w1.setCell ⟨p, 0, none⟩ v2) := by
  subst hm2 hl
  have hp := lt_of_heap hh
  have hh1 : w1.heap[p]? = some (.cells #[v, .int .i64 (m2 : Int)] 63 (0, 0)) := (hk.block p hp (fun e => hn p e rfl)).trans hh
  have hh2 : (w1.setCell ⟨p, 0, none⟩ v2).heap[p]? = some (.cells #[v2, .int .i64 (m2 : Int)] 63 (0, 0)) := by
    have := heap_setCell_same w1 p 0 _ 63 v2 hh1
    simpa using this
  have hne : ∀ k, v2.ownBlock = some k → k ≠ p := fun k hk2 => by
    rcases hb k hk2 with h1 | h1
    · exact hn k h1
    · omega
  have hkp : Keeps (fun x => x = p) w1 (w1.setCell ⟨p, 0, none⟩ v2) := (Keeps.refl (fun x => x = p) w1).setCell (S := fun x => x = p) (p := ⟨p, 0, none⟩) rfl v2
  refine ⟨fun x => x = p ∨ v2.ownBlock = some x, ⟨v2, hh2, row_keeps ho hkp (fun k hk2 => hne k hk2), hne, fun x => Iff.rfl, ht, hm⟩, fun x hx => ?_, ?_⟩
  · rcases hx with rfl | hx
    · exact .inl ((hS _).2 (.inl rfl))
    · rcases hb x hx with h1 | h1
      · exact .inl ((hS x).2 (.inr h1))
      · exact .inr h1
  · exact (hk.mono (S' := S) (fun x _ hx => (hS x).2 (.inr hx))).trans hkp (fun x hx _ => (hS x).2 (.inl hx))
end Go.Proofs.YtlnppbnbjeakhaaDoor
