/- The landed parser in memory: the row that it holds, how many of its bytes are gone, its room. -/
import Derived.Test.YtegcloapadippaaFRNext
namespace Go.Proofs.Ytegcloapadippaa
open Go.RowKit Fr

/-- The program's parser lies at block p: its room, the bytes l that are there; S: the blocks that are its own. -/
def PD (w : World) (S : Nat → Prop) (p : Nat) (room : Int) (l : List Nat) : Prop :=
  ∃ (v : Value) (G : List Nat) (gone : Nat), w.heap[p]? = some (.cells #[v, .int .i64 (gone : Int), .int .i64 room] 49 (0, 0)) ∧ w.ownsRow 0 5 1 v (gone + l.length) (cn .u8 G) ∧ G.drop gone = l ∧ gone ≤ l.length ∧ (∀ k, v.ownBlock = some k → k ≠ p) ∧ (∀ x, S x ↔ x = p ∨ v.ownBlock = some x)
section
variable {w w' : World} {S S' : Nat → Prop} {p : Nat} {room : Int} {l : List Nat}
theorem PD.low (h : PD w S p room l) : ∀ x, S x → x < w.heap.size := by
  obtain ⟨v, G, gone, hh, ho, _, _, hn, hS⟩ := h
  intro x hx
  rcases (hS x).1 hx with rfl | hx
  · exact lt_of_heapF hh
  · exact (ho.lt x hx).2
theorem PD.keep (h : PD w S p room l) (hk : Keeps S' w w') (hd : ∀ x, S x → ¬ S' x) : PD w' S p room l := by
  obtain ⟨v, G, gone, hh, ho, hG, hg, hn, hS⟩ := h
  exact ⟨v, G, gone, (hk.block p (lt_of_heapF hh) (hd p ((hS p).2 (.inl rfl)))).trans hh, row_keeps ho hk (fun k hk => hd k ((hS k).2 (.inr hk))), hG, hg, hn, hS⟩
theorem PD.quiet (h : PD w S p room l) (hb : Below w.heap.size w w') : PD w' S p room l := h.keep (S' := fun _ => False) (Keeps.of_below hb) (fun _ _ h => h)
end
/-- What a method of the program's parser leaves. -/
def PPost (S : Nat → Prop) (w : World) (p : Nat) (room : Int) (l : List Nat) (w' : World) : Prop := ∃ S', PD w' S' p room l ∧ (∀ x, S' x → S x ∨ w.heap.size ≤ x) ∧ Keeps S w w'
/-- What Next of the program's parser hands back. -/
def PNPost (S : Nat → Prop) (w : World) (p : Nat) (room : Int) (r : Frm × Nat × List Nat) (e : Ending) (w' : World) : Prop :=
  ∃ S', NxOut S' w r.1 r.2.1 e w' ∧ PD w' S' p room r.2.2 ∧ (∀ x, S' x → S x ∨ w.heap.size ≤ x) ∧ Keeps S w w'
end Go.Proofs.Ytegcloapadippaa
