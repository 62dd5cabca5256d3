/- The four blocks of a walk over the document's Read: the frame, what comes out, what is wrong, what the frame says so far. -/
import Derived.Test.YtelbldhnlmggiaaPtCut
namespace Go.Proofs.Ytelbldhnlmggiaa
open Go.RowKit Fr

/-- Nothing said. -/
def zeroP : Array Value := #[.slice none 0 0, .int .i64 0, .int .i64 0, .int .i64 0, .int .i64 0, .slice none 0 0, .bool false, .bool false, .bool false]
def w4of (w : World) (f : Frm) (A : Option Addr) (n c : Nat) : World := (w3of w f A n c).alloc (.cells #[.slice none 0 0, .int .i64 0, .int .i64 0, .int .i64 0, .int .i64 0, .slice none 0 0, .bool false, .bool false, .bool false] 28)
def Four (W : World) (g : Nat) (f : Frm) (A : Option Addr) (n c : Nat) (cs : Array Value) : Prop := Three W g f A n c ∧ W.heap[g + 1 + 1 + 1]? = some (.cells cs 28 (0, 0))
theorem four_of (w : World) (f : Frm) (A : Option Addr) (n c : Nat) : Four (w4of w f A n c) w.heap.size f A n c zeroP ∧ Below w.heap.size w (w4of w f A n c) ∧ (w4of w f A n c).heap.size = w.heap.size + 1 + 1 + 1 + 1 := by
  obtain ⟨T, hb, hs⟩ := three_of w f A n c
  have hb2 : Below (w3of w f A n c).heap.size (w3of w f A n c) (w4of w f A n c) := (Below.refl _ _).alloc (Nat.le_refl _) _
  refine ⟨⟨T.up hb2, ?_⟩, hb.trans (hb2.mono hb.size), ?_⟩
  · rw [← hs]
    exact heap_alloc_new (w3of w f A n c) _
  · rw [w4of, ← hs]
    simp
section
variable {W W' : World} {g n c : Nat} {f : Frm} {A : Option Addr} {cs : Array Value}
theorem Four.up (h : Four W g f A n c cs) (hb : Below W.heap.size W W') : Four W' g f A n c cs := ⟨h.1.up hb, (hb.block (g + 1 + 1 + 1) (lt_of_heapP h.2)).trans h.2⟩
theorem Four.drewN (h : Four W g f A n c cs) (N : Nat) : Four (W.drewN N) g f A n c cs := h
theorem Four.set (h : Four W g f A n c cs) (i : Nat) (u : Value) : Four (W.setCell ⟨g + 1 + 1 + 1, i, none⟩ u) g f A n c (cs.setIfInBounds i u) := by
  have hf := fun (k : Nat) (hk : k ≠ g + 1 + 1 + 1) => Below.heap_setCell W ⟨g + 1 + 1 + 1, i, none⟩ u k hk
  exact ⟨⟨(hf g (by omega)).trans h.1.1, (hf (g + 1) (by omega)).trans h.1.2.1, (hf (g + 1 + 1) (by omega)).trans h.1.2.2⟩, heap_setCell_same W (g + 1 + 1 + 1) i cs 28 u h.2⟩
end
/-- What comes out is stored, and what is wrong. -/
def stores (W : World) (g : Nat) (x0 x1 x2 x3 x4 x5 x6 x7 x8 y0 y1 y2 : Value) : World := (((((((((((W.setCell ⟨g + 1, 0, none⟩ x0).setCell ⟨g + 1, 1, none⟩ x1).setCell ⟨g + 1, 2, none⟩ x2).setCell ⟨g + 1, 3, none⟩ x3).setCell ⟨g + 1, 4, none⟩ x4).setCell ⟨g + 1, 5, none⟩ x5).setCell ⟨g + 1, 6, none⟩ x6).setCell ⟨g + 1, 7, none⟩ x7).setCell ⟨g + 1, 8, none⟩ x8).setCell ⟨g + 1 + 1, 0, none⟩ y0).setCell ⟨g + 1 + 1, 1, none⟩ y1).setCell ⟨g + 1 + 1, 2, none⟩ y2
theorem stores_keeps (W : World) (g : Nat) (x0 x1 x2 x3 x4 x5 x6 x7 x8 y0 y1 y2 : Value) : Keeps (fun k => k = g + 1 ∨ k = g + 1 + 1) W (stores W g x0 x1 x2 x3 x4 x5 x6 x7 x8 y0 y1 y2) := keeps_12 (w3 := W) (g := g) x0 x1 x2 x3 x4 x5 x6 x7 x8 y0 y1 y2
theorem stores_below {w W : World} {g : Nat} (hg : g = w.heap.size) (hb : Below w.heap.size w W) (x0 x1 x2 x3 x4 x5 x6 x7 x8 y0 y1 y2 : Value) : Below w.heap.size w (stores W g x0 x1 x2 x3 x4 x5 x6 x7 x8 y0 y1 y2) :=
  hb.trans ((stores_keeps W g x0 x1 x2 x3 x4 x5 x6 x7 x8 y0 y1 y2).below (fun k e => by omega) hb.size)
/-- Handed back with nothing in memory. -/
theorem rd_bare {w W : World} {g : Nat} {P : Prt} {F : Flt} (hg : g = w.heap.size) (hb : Below w.heap.size w W) (hd : P.data = []) (hs : P.sets = []) (x0 x1 x2 x3 x4 x5 x6 x7 x8 y0 y1 y2 : Value) :
    PtPost w (P, F) (.returned (.tuple #[prt P none 0 none 0, flt F])) (stores W g x0 x1 x2 x3 x4 x5 x6 x7 x8 y0 y1 y2) := pt_bare hd hs (stores_below hg hb _ _ _ _ _ _ _ _ _ _ _ _)
/-- Handed back with data that lie behind the four blocks. -/
theorem rd_data {w W : World} {g c B : Nat} {P : Prt} {F : Flt} {A : Option Addr} (hg : g = w.heap.size) (hb : Below w.heap.size w W) (hs : P.sets = []) (hB : g + 1 + 1 < B) (ho : W.ownsRow B 5 1 (.slice A P.data.length c) P.data.length (cn .u8 P.data)) (x0 x1 x2 x3 x4 x5 x6 x7 x8 y0 y1 y2 : Value) :
    PtPost w (P, F) (.returned (.tuple #[prt P A c none 0, flt F])) (stores W g x0 x1 x2 x3 x4 x5 x6 x7 x8 y0 y1 y2) := by
  have ho2 := row_keeps ho (stores_keeps W g x0 x1 x2 x3 x4 x5 x6 x7 x8 y0 y1 y2) (fun k hk e => by have := own_block ho k hk; omega)
  refine ⟨A, c, none, 0, rfl, At.of_own ho2, own_none ho2, own_cap ho2, ?_, fun _ => rfl, by simp [hs], fun b o s e => ?_, (fun b o s e => by cases e), stores_below hg hb _ _ _ _ _ _ _ _ _ _ _ _⟩
  · simp only [hs]
    exact atS_nil _ _ _
  · subst e
    have := own_block ho b rfl
    omega
/-- What a callee has handed back, stored. -/
theorem PtPost.stored {w W W' : World} {g : Nat} {r : Prt × Flt} {e : Ending} (hg : g = w.heap.size) (hb : Below w.heap.size w W) (hs : g + 1 + 1 < W.heap.size) (h : PtPost W r e W') (x0 x1 x2 x3 x4 x5 x6 x7 x8 y0 y1 y2 : Value) :
    PtPost w r e (stores W' g x0 x1 x2 x3 x4 x5 x6 x7 x8 y0 y1 y2) := by
  obtain ⟨A, c, B, d, rfl, h1, h2, h3, h4, h5, h6, h7, h8, h9⟩ := h
  have hk := stores_keeps W' g x0 x1 x2 x3 x4 x5 x6 x7 x8 y0 y1 y2
  refine ⟨A, c, B, d, rfl, fun hne => ?_, h2, h3, fun hne => ?_, h5, h6, fun b o s e => Nat.le_trans hb.size (h7 b o s e), fun b o s e => Nat.le_trans hb.size (h8 b o s e), stores_below hg (hb.trans (h9.mono hb.size)) _ _ _ _ _ _ _ _ _ _ _ _⟩
  · obtain ⟨b, o, rfl, hB, hc⟩ := h1 hne
    have := h7 b o none rfl
    exact ⟨b, o, rfl, Nat.lt_of_lt_of_le hB hk.size, fun i hi => (hk.cell (p := ⟨b, o + i, none⟩) hB (fun e => by rcases e with e | e <;> (simp only [] at e; omega))).trans (hc i hi)⟩
  · obtain ⟨b, o, rfl, hB, hc⟩ := h4 hne
    have := h8 b o none rfl
    exact ⟨b, o, rfl, Nat.lt_of_lt_of_le hB hk.size, fun i hi => ⟨(hk.cell (p := ⟨b, o + i * 2, none⟩) hB (fun e => by rcases e with e | e <;> (simp only [] at e; omega))).trans (hc i hi).1, (hk.cell (p := ⟨b, o + i * 2 + 1, none⟩) hB (fun e => by rcases e with e | e <;> (simp only [] at e; omega))).trans (hc i hi).2⟩⟩
end Go.Proofs.Ytelbldhnlmggiaa
