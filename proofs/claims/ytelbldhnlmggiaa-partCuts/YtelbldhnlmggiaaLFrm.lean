/- Frames that come in: a list of them, one by value. Stage 10. -/
import Derived.Test.YtelbldhnlmggiaaFFrm
import Derived.Test.YtelbldhnlmggiaaLMem
import Derived.Test.YtelbldhnlmggiaaLIn
import Derived.Deep.Slices
import Derived.Lib.SmallJoins
namespace Go.Proofs.Ytelbldhnlmggiaa
open Go.ChangeShapes Go.WideShapes Go.ChangeAt Go.RowKit Go.Deep Go.Joins Fr

/-- A frame as it lies: what it says, where its body is, its room. -/
structure FrA where
  f : Frm
  ad : Option Addr
  cap : Nat
/-- Its numbers are ints. -/
def frmInts (f : Frm) : Prop := (-9223372036854775808 ≤ f.kind ∧ f.kind ≤ 9223372036854775807) ∧ (-9223372036854775808 ≤ f.flags ∧ f.flags ≤ 9223372036854775807) ∧ (-9223372036854775808 ≤ f.stream ∧ f.stream ≤ 9223372036854775807)
/-- It is well laid, below block B. -/
structure FrA.ok (s : FrA) (w : World) (B : Nat) : Prop where
  at' : At .u8 w B s.ad s.f.body
  bytes : ∀ x ∈ s.f.body, x < 256
  nil : s.ad = none → s.cap = 0
  room : s.f.body.length ≤ s.cap
  ints : frmInts s.f
theorem FrA.ok.up {s : FrA} {w w' : World} (h : s.ok w w.heap.size) (hb : Below w.heap.size w w') : s.ok w' w'.heap.size := ⟨h.at'.up hb, h.bytes, h.nil, h.room, h.ints⟩
/-- The frames l lie at A, below block B, four cells each. -/
def AtR (w : World) (B : Nat) (A : Option Addr) (l : List FrA) : Prop :=
  l ≠ [] → ∃ b o, A = some ⟨b, o, none⟩ ∧ b < B ∧ ∀ i (h : i < l.length), (w.cell? ⟨b, o + i * 4, none⟩ = some (.int .i64 l[i].f.kind) ∧ w.cell? ⟨b, o + i * 4 + 1, none⟩ = some (.int .i64 l[i].f.flags) ∧ w.cell? ⟨b, o + i * 4 + 2, none⟩ = some (.int .i64 l[i].f.stream) ∧ w.cell? ⟨b, o + i * 4 + 3, none⟩ = some (.slice l[i].ad l[i].f.body.length l[i].cap)) ∧ l[i].ok w B
theorem AtR.pos {w : World} {B : Nat} {A : Option Addr} {l : List FrA} (h : AtR w B A l) (hl : 0 < l.length) : ∃ b o, A = some ⟨b, o, none⟩ ∧ b < B ∧ ∀ i (h : i < l.length), (w.cell? ⟨b, o + i * 4, none⟩ = some (.int .i64 l[i].f.kind) ∧ w.cell? ⟨b, o + i * 4 + 1, none⟩ = some (.int .i64 l[i].f.flags) ∧ w.cell? ⟨b, o + i * 4 + 2, none⟩ = some (.int .i64 l[i].f.stream) ∧ w.cell? ⟨b, o + i * 4 + 3, none⟩ = some (.slice l[i].ad l[i].f.body.length l[i].cap)) ∧ l[i].ok w B := h (List.length_pos_iff.1 hl)
theorem AtR.up {w w' : World} {A : Option Addr} {l : List FrA} (h : AtR w w.heap.size A l) (hb : Below w.heap.size w w') : AtR w' w'.heap.size A l := fun hne => by
  obtain ⟨b, o, e, hB, hc⟩ := h hne
  refine ⟨b, o, e, Nat.lt_of_lt_of_le hB hb.size, fun i hi => ?_⟩
  obtain ⟨⟨c0, c1, c2, c3⟩, hok⟩ := hc i hi
  exact ⟨⟨(hb.cell (p := ⟨b, o + i * 4, none⟩) hB).trans c0, (hb.cell (p := ⟨b, o + i * 4 + 1, none⟩) hB).trans c1, (hb.cell (p := ⟨b, o + i * 4 + 2, none⟩) hB).trans c2, (hb.cell (p := ⟨b, o + i * 4 + 3, none⟩) hB).trans c3⟩, hok.up hb⟩
theorem cellsFrm : Try.prog.cellsOf 34 = 4 := by kernel_rfl
theorem cellsIntF : Try.prog.cellsOf 3 = 1 := by kernel_rfl
theorem cellsBsF : Try.prog.cellsOf 25 = 1 := by kernel_rfl
/-- A slice's one cell, out of its reading. -/
theorem slice_cellF {H : Type} {enc : TypeId × Value → H} {W : World} {base n t e : Nat} {sp : Nat → Bool} {held : Bool} {c : Value} {x : DataW H × List MemPlace} (ht : Try.prog.underlying t = some (.slice e))
    (h : DataW.trod enc Try.prog W base sp held n t [c] = some x) : ∃ a l r, c = .slice a l r := by
  rcases open_slice ht h with ⟨e, _⟩ | ⟨ad2, l2, c2, _, _, _, _, e, _⟩
  · injection e with e
    exact ⟨none, 0, 0, e⟩
  · injection e with e
    exact ⟨some ad2, l2, c2, e⟩
/-- A frame's four cells, out of their readings. -/
theorem frm_cells {H : Type} {enc : TypeId × Value → H} {W : World} {n : Nat} {v0 v1 v2 v3 : Value} {y0 y1 y2 y3 : DataW H × List MemPlace}
    (h0 : DataW.trod enc Try.prog W 0 (fun _ => true) true n 3 [v0] = some y0) (h1 : DataW.trod enc Try.prog W 0 (fun _ => true) true n 3 [v1] = some y1) (h2 : DataW.trod enc Try.prog W 0 (fun _ => true) true n 3 [v2] = some y2) (h3 : DataW.trod enc Try.prog W 0 (fun _ => true) true n 25 [v3] = some y3) :
    ∃ s : FrA, s.ok W W.heap.size ∧ v0 = .int .i64 s.f.kind ∧ v1 = .int .i64 s.f.flags ∧ v2 = .int .i64 s.f.stream ∧ v3 = .slice s.ad s.f.body.length s.cap := by
  obtain ⟨n0, e0, _, w0⟩ := DataW.trod_int Try.underlying3 h0
  obtain ⟨n1, e1, _, w1⟩ := DataW.trod_int Try.underlying3 h1
  obtain ⟨n2, e2, _, w2⟩ := DataW.trod_int Try.underlying3 h2
  obtain ⟨a3, l3, r3, rfl⟩ := slice_cellF Try.underlying25 h3
  simp at e0 e1 e2
  subst e0 e1 e2
  have hT : DataW.Trod enc Try.prog W 0 (fun _ => true) true 25 (.slice a3 l3 r3) y3.1 y3.2 := ⟨_, h3⟩
  obtain ⟨l, rfl, i1, i2, i3, i4⟩ := opened hT
  exact ⟨⟨⟨n0, n1, n2, l⟩, a3, r3⟩, ⟨i4, i3, i2, i1, bounds_i64 w0, bounds_i64 w1, bounds_i64 w2⟩, rfl, rfl, rfl, rfl⟩
/-- A frame by value. -/
theorem openedW {H : Type} {enc : TypeId × Value → H} {W : World} {b0 : Nat} {v : Value} {d : DataW H} {p : List MemPlace}
    (hv : Value.okWide Try.prog W .any b0 34 v) (h : DataW.Trod enc Try.prog W 0 (fun _ => true) true 34 v d p) :
    ∃ s : FrA, v = frm s.f s.ad s.cap ∧ s.ok W W.heap.size := by
  obtain ⟨v0, v1, v2, v3, y0, y1, y2, y3, n, rfl, rfl, rfl, h0, h1, h2, h3⟩ := open_agg4 Try.underlying34 (by kernel_rfl) (by kernel_rfl) hv h
  obtain ⟨s, hok, rfl, rfl, rfl, rfl⟩ := frm_cells h0 h1 h2 h3
  exact ⟨s, rfl, hok⟩
/-- A list of frames that came in. -/
theorem openedR {H : Type} {enc : TypeId × Value → H} {W : World} {a : Option Addr} {len cap : Nat} {d : DataW H} {p : List MemPlace}
    (h : DataW.Trod enc Try.prog W 0 (fun _ => true) true 22 (.slice a len cap) d p) :
    ∃ l : List FrA, l.length = len ∧ len ≤ cap ∧ (a = none → cap = 0) ∧ AtR W W.heap.size a l := by
  obtain ⟨fuel, hf⟩ := h
  rcases open_slice Try.underlying22 hf with ⟨hcs, _⟩ | ⟨ad, len', cap', m, n, D, Pl, hcs, _, hl, hm, hmm, _, hi⟩
  · simp [Value.cells] at hcs
    obtain ⟨rfl, rfl, rfl⟩ := hcs
    exact ⟨[], rfl, Nat.le_refl _, fun _ => rfl, fun h => absurd rfl h⟩
  · simp [Value.cells] at hcs
    obtain ⟨rfl, rfl, rfl⟩ := hcs
    rw [cellsFrm] at hi
    simp only [if_true] at hmm
    subst hmm
    have hF : ∀ i, i < m → ∃ s : FrA, s.ok W W.heap.size ∧ W.cell? ((ad.add (i * 4)).add 0) = some (.int .i64 s.f.kind) ∧ W.cell? ((ad.add (i * 4)).add 1) = some (.int .i64 s.f.flags) ∧ W.cell? ((ad.add (i * 4)).add 2) = some (.int .i64 s.f.stream) ∧ W.cell? ((ad.add (i * 4)).add 3) = some (.slice s.ad s.f.body.length s.cap) := by
      intro i him
      obtain ⟨cs', hc, ht⟩ := hi i him
      obtain ⟨_, hlen, hat⟩ := World.cells?_some hc
      obtain ⟨y0, y1, y2, y3, k, _, hl2, h0, h1, h2, h3⟩ := trod_struct4 Try.underlying34 ht
      rw [cellsFrm] at hl2
      simp only [cellsIntF, cellsBsF] at h0 h1 h2 h3
      match cs', hl2 with
      | [c0, c1, c2, c3], _ =>
        simp only [List.drop_zero, List.take_succ_cons, List.take_zero, List.drop_succ_cons] at h0 h1 h2 h3
        obtain ⟨s, hok, rfl, rfl, rfl, rfl⟩ := frm_cells h0 h1 h2 h3
        exact ⟨s, hok, by simpa using hat 0 (by omega), by simpa using hat 1 (by omega), by simpa using hat 2 (by omega), by simpa using hat 3 (by omega)⟩
    have hC : ∃ F : Nat → FrA, ∀ i, i < m → (F i).ok W W.heap.size ∧ W.cell? ((ad.add (i * 4)).add 0) = some (.int .i64 (F i).f.kind) ∧ W.cell? ((ad.add (i * 4)).add 1) = some (.int .i64 (F i).f.flags) ∧ W.cell? ((ad.add (i * 4)).add 2) = some (.int .i64 (F i).f.stream) ∧ W.cell? ((ad.add (i * 4)).add 3) = some (.slice (F i).ad (F i).f.body.length (F i).cap) := by
      refine ⟨fun i => if h : i < m then Classical.choose (hF i h) else ⟨noFrm, none, 0⟩, fun i h => ?_⟩
      simp only [dif_pos h]
      exact Classical.choose_spec (hF i h)
    obtain ⟨F, hFs⟩ := hC
    refine ⟨(List.range len).map F, by simp, hl, (fun h => by cases h), fun hne => ?_⟩
    have hpos : 0 < len := by
      rcases Nat.eq_zero_or_pos len with h0 | h0
      · subst h0; simp at hne
      · exact h0
    obtain ⟨b, o, spot⟩ := ad
    have hspot : spot = none := by simpa [Addr.add] using World.cell?_spot (hFs 0 (by omega)).2.1
    subst hspot
    refine ⟨b, o, rfl, ?_, fun i hi1 => ?_⟩
    · have h0 := (hFs 0 (by omega)).2.1
      have := World.block_lt_of_cell? W _ h0
      simpa [Addr.add] using this
    · have hi2 : i < len := by simpa using hi1
      obtain ⟨h1, h2, h3, h4, h5⟩ := hFs i (by omega)
      simp only [Go.WideShapes.add_plain] at h2 h3 h4 h5
      simp only [List.getElem_map, List.getElem_range]
      exact ⟨⟨by simpa using h2, by simpa using h3, by simpa using h4, by simpa using h5⟩, h1⟩
end Go.Proofs.Ytelbldhnlmggiaa
