/- What padded leaves where nothing is wrong. -/
import Derived.Test.YtelbldhnlmggiaaPtStore
import Derived.Test.YtelbldhnlmggiaaLRowK
namespace Go.Proofs.Ytelbldhnlmggiaa
open Go.RowKit Fr

/-- Behind the last region: what the frame says lies at its block, the fault is none. -/
def PtCut (w1 : World) (g : Nat) (X : List Nat) (pad : Nat) (E Q : Bool) (wx : World) : Prop :=
  ∃ A c, wx.heap[g + 1]? = some (.cells #[.slice A X.length c, .int .i64 (pad : Int), .int .i64 0, .int .i64 0, .int .i64 0, .slice none 0 0, .bool E, .bool false, .bool Q] 28 (0, 0)) ∧ wx.heap[g + 1 + 1]? = some (.cells #[.bool false, .bool false, .int .i64 0] 30 (0, 0)) ∧ wx.ownsRow w1.heap.size 5 1 (.slice A X.length c) X.length (cn .u8 X) ∧ Below g w1 wx
section
variable {w3 : World} {g : Nat} {f : Frm} {A : Option Addr} {n c : Nat}
theorem three_9 (T : Three w3 g f A n c) (x0 x1 x2 x3 x4 x5 x6 x7 x8 : Value) : (((((((((w3.setCell ⟨g + 1, 0, none⟩ x0).setCell ⟨g + 1, 1, none⟩ x1).setCell ⟨g + 1, 2, none⟩ x2).setCell ⟨g + 1, 3, none⟩ x3).setCell ⟨g + 1, 4, none⟩ x4).setCell ⟨g + 1, 5, none⟩ x5).setCell ⟨g + 1, 6, none⟩ x6).setCell ⟨g + 1, 7, none⟩ x7).setCell ⟨g + 1, 8, none⟩ x8).cell? ⟨g, 0, none⟩ = some (.int .i64 f.kind) ∧ (((((((((w3.setCell ⟨g + 1, 0, none⟩ x0).setCell ⟨g + 1, 1, none⟩ x1).setCell ⟨g + 1, 2, none⟩ x2).setCell ⟨g + 1, 3, none⟩ x3).setCell ⟨g + 1, 4, none⟩ x4).setCell ⟨g + 1, 5, none⟩ x5).setCell ⟨g + 1, 6, none⟩ x6).setCell ⟨g + 1, 7, none⟩ x7).setCell ⟨g + 1, 8, none⟩ x8).cell? ⟨g, 1, none⟩ = some (.int .i64 f.flags) := by
  have hk := keepsP9 w3 (g + 1) x0 x1 x2 x3 x4 x5 x6 x7 x8
  have h := (hk.block g (lt_of_heapP T.1) (fun e => by omega)).trans T.1
  exact ⟨cell_of_row _ g 0 _ 34 _ h, cell_of_row _ g 1 _ 34 _ h⟩
theorem keeps_12 (x0 x1 x2 x3 x4 x5 x6 x7 x8 y0 y1 y2 : Value) : Keeps (fun k => k = g + 1 ∨ k = g + 1 + 1) w3 ((((((((((((w3.setCell ⟨g + 1, 0, none⟩ x0).setCell ⟨g + 1, 1, none⟩ x1).setCell ⟨g + 1, 2, none⟩ x2).setCell ⟨g + 1, 3, none⟩ x3).setCell ⟨g + 1, 4, none⟩ x4).setCell ⟨g + 1, 5, none⟩ x5).setCell ⟨g + 1, 6, none⟩ x6).setCell ⟨g + 1, 7, none⟩ x7).setCell ⟨g + 1, 8, none⟩ x8).setCell ⟨g + 1 + 1, 0, none⟩ y0).setCell ⟨g + 1 + 1, 1, none⟩ y1).setCell ⟨g + 1 + 1, 2, none⟩ y2) :=
  ((keepsP9 w3 (g + 1) x0 x1 x2 x3 x4 x5 x6 x7 x8).mono (S' := fun k => k = g + 1 ∨ k = g + 1 + 1) (fun _ _ e => Or.inl e)).trans (keepsP3 _ (g + 1 + 1) y0 y1 y2) (fun _ e _ => Or.inr e)
theorem three_12 (T : Three w3 g f A n c) (x0 x1 x2 x3 x4 x5 x6 x7 x8 y0 y1 y2 : Value) : ((((((((((((w3.setCell ⟨g + 1, 0, none⟩ x0).setCell ⟨g + 1, 1, none⟩ x1).setCell ⟨g + 1, 2, none⟩ x2).setCell ⟨g + 1, 3, none⟩ x3).setCell ⟨g + 1, 4, none⟩ x4).setCell ⟨g + 1, 5, none⟩ x5).setCell ⟨g + 1, 6, none⟩ x6).setCell ⟨g + 1, 7, none⟩ x7).setCell ⟨g + 1, 8, none⟩ x8).setCell ⟨g + 1 + 1, 0, none⟩ y0).setCell ⟨g + 1 + 1, 1, none⟩ y1).setCell ⟨g + 1 + 1, 2, none⟩ y2).cell? ⟨g, 0, none⟩ = some (.int .i64 f.kind) ∧ ((((((((((((w3.setCell ⟨g + 1, 0, none⟩ x0).setCell ⟨g + 1, 1, none⟩ x1).setCell ⟨g + 1, 2, none⟩ x2).setCell ⟨g + 1, 3, none⟩ x3).setCell ⟨g + 1, 4, none⟩ x4).setCell ⟨g + 1, 5, none⟩ x5).setCell ⟨g + 1, 6, none⟩ x6).setCell ⟨g + 1, 7, none⟩ x7).setCell ⟨g + 1, 8, none⟩ x8).setCell ⟨g + 1 + 1, 0, none⟩ y0).setCell ⟨g + 1 + 1, 1, none⟩ y1).setCell ⟨g + 1 + 1, 2, none⟩ y2).cell? ⟨g, 1, none⟩ = some (.int .i64 f.flags) := by
  have hk := keeps_12 (w3 := w3) (g := g) x0 x1 x2 x3 x4 x5 x6 x7 x8 y0 y1 y2
  have h := (hk.block g (lt_of_heapP T.1) (fun e => by omega)).trans T.1
  exact ⟨cell_of_row _ g 0 _ 34 _ h, cell_of_row _ g 1 _ 34 _ h⟩
theorem ptcut_mk {w1 : World} {X : List Nat} {Ax : Option Addr} {cx : Nat} {pad : Nat} {E Q : Bool} (T : Three w3 g f A n c) (hg : w1.heap.size = g + 1 + 1 + 1) (hb : Below w1.heap.size w1 w3) (hro : w3.ownsRow w1.heap.size 5 1 (.slice Ax X.length cx) X.length (cn .u8 X)) : PtCut w1 g X pad E Q ((((((((((((w3.setCell ⟨g + 1, 0, none⟩ (.slice Ax X.length cx)).setCell ⟨g + 1, 1, none⟩ (.int .i64 (pad : Int))).setCell ⟨g + 1, 2, none⟩ (.int .i64 0)).setCell ⟨g + 1, 3, none⟩ (.int .i64 0)).setCell ⟨g + 1, 4, none⟩ (.int .i64 0)).setCell ⟨g + 1, 5, none⟩ (.slice none 0 0)).setCell ⟨g + 1, 6, none⟩ (.bool E)).setCell ⟨g + 1, 7, none⟩ (.bool false)).setCell ⟨g + 1, 8, none⟩ (.bool Q)).setCell ⟨g + 1 + 1, 0, none⟩ (.bool false)).setCell ⟨g + 1 + 1, 1, none⟩ (.bool false)).setCell ⟨g + 1 + 1, 2, none⟩ (.int .i64 0)) := by
  have hk := keeps_12 (w3 := w3) (g := g) (.slice Ax X.length cx) (.int .i64 (pad : Int)) (.int .i64 0) (.int .i64 0) (.int .i64 0) (.slice none 0 0) (.bool E) (.bool false) (.bool Q) (.bool false) (.bool false) (.int .i64 0)
  have h1 := heapP9 T.2.1 (.slice Ax X.length cx) (.int .i64 (pad : Int)) (.int .i64 0) (.int .i64 0) (.int .i64 0) (.slice none 0 0) (.bool E) (.bool false) (.bool Q)
  have k9 := keepsP9 w3 (g + 1) (.slice Ax X.length cx) (.int .i64 (pad : Int)) (.int .i64 0) (.int .i64 0) (.int .i64 0) (.slice none 0 0) (.bool E) (.bool false) (.bool Q)
  have h2 := (k9.block (g + 1 + 1) (lt_of_heapP T.2.2) (fun e => by omega)).trans T.2.2
  have h3 := heapP3 h2 (.bool false) (.bool false) (.int .i64 0)
  have h4 := ((keepsP3 _ (g + 1 + 1) (.bool false) (.bool false) (.int .i64 0)).block (g + 1) (lt_of_heapP h1) (fun e => by omega)).trans h1
  refine ⟨Ax, cx, h4, h3, row_keeps hro hk (fun k hk e => ?_), (hb.mono (by omega)).trans (hk.below (fun k e => by omega) (by have := hb.size; omega))⟩
  have := own_block hro k hk
  omega
end
/-- Of that, what is handed back. -/
theorem PtCut.post {w w1 wx : World} {g : Nat} {X : List Nat} {pad : Nat} {E Q : Bool} {A : Option Addr} {c : Nat} (hg : g = w.heap.size) (hs : w1.heap.size = g + 1 + 1 + 1) (hb : Below w.heap.size w w1) (hro : wx.ownsRow w1.heap.size 5 1 (.slice A X.length c) X.length (cn .u8 X)) (hbx : Below g w1 wx) : PtPost w (⟨X, pad, 0, 0, 0, [], E, false, Q⟩, noFlt) (.returned (.tuple #[.agg #[.slice A X.length c, .int .i64 (pad : Int), .int .i64 0, .int .i64 0, .int .i64 0, .slice none 0 0, .bool E, .bool false, .bool Q], .agg #[.bool false, .bool false, .int .i64 0]])) wx :=
  ⟨A, c, none, 0, rfl, At.of_own hro, own_none hro, own_cap hro, atS_nil _ _ _, fun _ => rfl, Nat.le_refl _, (fun b o s e => by
    subst e
    have := (hro.lt b rfl).1
    omega), (fun b o s e => by cases e), hb.trans (by rw [← hg]; exact hbx)⟩
end Go.Proofs.Ytelbldhnlmggiaa
