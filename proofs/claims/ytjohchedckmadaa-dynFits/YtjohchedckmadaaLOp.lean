/- Lists of calls (kind, number, field) that came in. Stage 7. -/
import Derived.Test.YtjohchedckmadaaLFld
namespace Go.Proofs.Ytjohchedckmadaa
open Go.ChangeShapes Go.WideShapes Go.ChangeAt Go.RowKit Go.Deep

/-- A call. -/
structure Opn where
  kind : Int
  num : Int
  fld : Fld
/-- The five cells of a call at block b, from o on. -/
def OpAt (w : World) (b o : Nat) (q : Opn) : Prop :=
  w.cell? ⟨b, o, none⟩ = some (.int .i64 q.kind) ∧ w.cell? ⟨b, o + 1, none⟩ = some (.int .i64 q.num) ∧ w.cell? ⟨b, o + 2, none⟩ = some (.string q.fld.name) ∧ w.cell? ⟨b, o + 3, none⟩ = some (.string q.fld.value) ∧ w.cell? ⟨b, o + 4, none⟩ = some (.bool q.fld.never)
theorem OpAt.below {w w' : World} {b o C : Nat} {q : Opn} (h : OpAt w b o q) (hb : Below C w w') (hC : b < C) : OpAt w' b o q := by
  obtain ⟨h0, h1, h2, h3, h4⟩ := h
  exact ⟨(hb.cell (p := ⟨b, o, none⟩) hC).trans h0, (hb.cell (p := ⟨b, o + 1, none⟩) hC).trans h1, (hb.cell (p := ⟨b, o + 2, none⟩) hC).trans h2, (hb.cell (p := ⟨b, o + 3, none⟩) hC).trans h3, (hb.cell (p := ⟨b, o + 4, none⟩) hC).trans h4⟩
/-- The calls l lie at A, below block B; where there is none, A is whatever. -/
def AtO (w : World) (B : Nat) (A : Option Addr) (l : List Opn) : Prop :=
  l ≠ [] → ∃ b o, A = some ⟨b, o, none⟩ ∧ b < B ∧ ∀ i (h : i < l.length), OpAt w b (o + i * 5) l[i]
theorem AtO.below {w w' : World} {B C : Nat} {A : Option Addr} {l : List Opn} (h : AtO w B A l) (hb : Below C w w') (hC : B ≤ C) : AtO w' B A l := fun hl => by
  obtain ⟨b, o, e, hB, hc⟩ := h hl
  exact ⟨b, o, e, hB, fun i hi => (hc i hi).below hb (by omega)⟩
theorem AtO.more {w : World} {B C : Nat} {A : Option Addr} {l : List Opn} (h : AtO w B A l) (hC : B ≤ C) : AtO w C A l := fun hl => by
  obtain ⟨b, o, e, hB, hc⟩ := h hl
  exact ⟨b, o, e, by omega, hc⟩
theorem AtO.up {w w' : World} {A : Option Addr} {l : List Opn} (h : AtO w w.heap.size A l) (hb : Below w.heap.size w w') : AtO w' w'.heap.size A l := (h.below hb (Nat.le_refl _)).more hb.size
theorem AtO.pos {w : World} {B : Nat} {A : Option Addr} {l : List Opn} (h : AtO w B A l) (hl : 0 < l.length) : ∃ b o, A = some ⟨b, o, none⟩ ∧ b < B ∧ ∀ i (h : i < l.length), OpAt w b (o + i * 5) l[i] :=
  h (List.length_pos_iff.1 hl)
theorem cellsOp : Try.prog.cellsOf 35 = 5 := by kernel_rfl
theorem cellsInt : Try.prog.cellsOf 3 = 1 := by kernel_rfl
/-- What a call may bear. -/
def Opn.fit (q : Opn) : Prop := (Lit.int .i64 q.kind).wf = true ∧ (Lit.int .i64 q.num).wf = true ∧ q.fld.name.size ≤ maxLen ∧ q.fld.value.size ≤ maxLen
/-- One call's cells, out of its reading. -/
theorem opn_of {H : Type} {enc : TypeId × Value → H} {W : World} {base n : Nat} {sp : Nat → Bool} {held : Bool} {cs : List Value} {x : DataW H × List MemPlace}
    (h : DataW.trod enc Try.prog W base sp held n 35 cs = some x) : ∃ q : Opn, cs = [.int .i64 q.kind, .int .i64 q.num, .string q.fld.name, .string q.fld.value, .bool q.fld.never] ∧ q.fit := by
  obtain ⟨y0, y1, y2, m, _, hl, h0, h1, h2⟩ := trod_struct3 Try.underlying35 h
  rw [cellsOp] at hl
  simp only [cellsInt, cellsFd] at h0 h1 h2
  match cs, hl with
  | [c0, c1, c2, c3, c4], _ =>
    obtain ⟨f, e2, b0, b1⟩ := fld_of h2
    obtain ⟨k, e0, _, w0⟩ := DataW.trod_int Try.underlying3 h0
    obtain ⟨z, e1, _, w1⟩ := DataW.trod_int Try.underlying3 h1
    simp at e0 e1 e2
    obtain ⟨rfl, rfl, rfl⟩ := e2
    subst e0 e1
    exact ⟨⟨k, z, f⟩, rfl, w0, w1, b0, b1⟩
/-- A list of calls that came in. -/
theorem openedO {H : Type} {enc : TypeId × Value → H} {W : World} {a : Option Addr} {len cap : Nat} {d : DataW H} {p : List MemPlace}
    (h : DataW.Trod enc Try.prog W 0 (fun _ => true) true 22 (.slice a len cap) d p) :
    ∃ l : List Opn, l.length = len ∧ len ≤ cap ∧ (a = none → cap = 0) ∧ (∀ q ∈ l, q.fit) ∧ AtO W W.heap.size a l := by
  obtain ⟨fuel, hf⟩ := h
  rcases open_slice Try.underlying22 hf with ⟨hcs, _⟩ | ⟨ad, len', cap', m, n, D, Pl, hcs, _, hl, hm, hmm, _, hi⟩
  · simp [Value.cells] at hcs
    obtain ⟨rfl, rfl, rfl⟩ := hcs
    exact ⟨[], rfl, Nat.le_refl _, fun _ => rfl, fun f hf => by simp at hf, fun h => absurd rfl h⟩
  · simp [Value.cells] at hcs
    obtain ⟨rfl, rfl, rfl⟩ := hcs
    rw [cellsOp] at hi
    simp only [if_true] at hmm
    subst hmm
    have hF : ∀ i, i < m → ∃ q : Opn, q.fit ∧ W.cell? ((ad.add (i * 5)).add 0) = some (.int .i64 q.kind) ∧ W.cell? ((ad.add (i * 5)).add 1) = some (.int .i64 q.num) ∧ W.cell? ((ad.add (i * 5)).add 2) = some (.string q.fld.name) ∧ W.cell? ((ad.add (i * 5)).add 3) = some (.string q.fld.value) ∧ W.cell? ((ad.add (i * 5)).add 4) = some (.bool q.fld.never) := by
      intro i him
      obtain ⟨cs', hc, ht⟩ := hi i him
      obtain ⟨q, rfl, b0⟩ := opn_of ht
      obtain ⟨_, _, hat⟩ := World.cells?_some hc
      exact ⟨q, b0, by simpa using hat 0 (by omega), by simpa using hat 1 (by omega), by simpa using hat 2 (by omega), by simpa using hat 3 (by omega), by simpa using hat 4 (by omega)⟩
    have hC : ∃ F : Nat → Opn, ∀ i, i < m → (F i).fit ∧ W.cell? ((ad.add (i * 5)).add 0) = some (.int .i64 (F i).kind) ∧ W.cell? ((ad.add (i * 5)).add 1) = some (.int .i64 (F i).num) ∧ W.cell? ((ad.add (i * 5)).add 2) = some (.string (F i).fld.name) ∧ W.cell? ((ad.add (i * 5)).add 3) = some (.string (F i).fld.value) ∧ W.cell? ((ad.add (i * 5)).add 4) = some (.bool (F i).fld.never) := by
      refine ⟨fun i => if h : i < m then Classical.choose (hF i h) else ⟨0, 0, ⟨ByteArray.empty, ByteArray.empty, false⟩⟩, fun i h => ?_⟩
      simp only [dif_pos h]
      exact Classical.choose_spec (hF i h)
    obtain ⟨F, hFs⟩ := hC
    refine ⟨(List.range len).map F, by simp, hl, (fun h => by cases h), fun f hf => ?_, fun hne => ?_⟩
    · simp only [List.mem_map, List.mem_range] at hf
      obtain ⟨i, hi1, rfl⟩ := hf
      exact (hFs i (by omega)).1
    · have hpos : 0 < len := by
        rcases Nat.eq_zero_or_pos len with h0 | h0
        · subst h0; simp at hne
        · exact h0
      obtain ⟨b, o, spot⟩ := ad
      have hspot : spot = none := by simpa [Addr.add] using World.cell?_spot (hFs 0 (by omega)).2.1
      subst hspot
      refine ⟨b, o, rfl, ?_, fun i hi1 => ?_⟩
      · have h0 := (hFs 0 (by omega)).2.1
        have := World.block_lt_of_cell? W _ h0
        simpa [Addr.add] using this
      · have hi2 : i < len := by simpa using hi1
        obtain ⟨_, h0, h1, h2, h3, h4⟩ := hFs i (by omega)
        simp only [Go.WideShapes.add_plain] at h0 h1 h2 h3 h4
        simp only [List.getElem_map, List.getElem_range]
        exact ⟨h0, h1, h2, h3, h4⟩
end Go.Proofs.Ytjohchedckmadaa
