/- Words for memory: lists of fields (name, value, never) that lie somewhere; an argument that is such a list. From stage 6 on. -/
import Derived.Test.YtjohchedckmadaaRows
import Derived.Deep.Strs
import Derived.Deep.Slices
import Derived.ProofKit
import Derived.OpenShut
import Derived.ShutString
import Derived.ChangeOld
import Derived.Below
import Derived.WalkKit
import Derived.WalkSpells
import Derived.IntWalk
import Derived.RegionTactic
import Derived.Deep.QuietTactic
import Derived.BigQuiet
import Derived.Lib.Hide
namespace Go.Proofs.Ytjohchedckmadaa
open Go.ChangeShapes Go.WideShapes Go.ChangeAt Go.RowKit Go.Deep

/-- A field. -/
structure Fld where
  name : ByteArray
  value : ByteArray
  never : Bool
/-- The fields l lie at A, below block B, three cells each; where there is none, A is whatever. -/
def AtF (w : World) (B : Nat) (A : Option Addr) (l : List Fld) : Prop :=
  l ≠ [] → ∃ b o, A = some ⟨b, o, none⟩ ∧ b < B ∧ ∀ i (h : i < l.length), w.cell? ⟨b, o + i * 3, none⟩ = some (.string l[i].name) ∧ w.cell? ⟨b, o + i * 3 + 1, none⟩ = some (.string l[i].value) ∧ w.cell? ⟨b, o + i * 3 + 2, none⟩ = some (.bool l[i].never)
theorem atF_nil (w : World) (B : Nat) (A : Option Addr) : AtF w B A [] := fun h => absurd rfl h
theorem AtF.below {w w' : World} {B C : Nat} {A : Option Addr} {l : List Fld} (h : AtF w B A l) (hb : Below C w w') (hC : B ≤ C) : AtF w' B A l := fun hl => by
  obtain ⟨b, o, e, hB, hc⟩ := h hl
  refine ⟨b, o, e, hB, fun i hi => ?_⟩
  obtain ⟨h0, h1, h2⟩ := hc i hi
  exact ⟨(hb.cell (p := ⟨b, o + i * 3, none⟩) (by show b < C; omega)).trans h0, (hb.cell (p := ⟨b, o + i * 3 + 1, none⟩) (by show b < C; omega)).trans h1, (hb.cell (p := ⟨b, o + i * 3 + 2, none⟩) (by show b < C; omega)).trans h2⟩
theorem AtF.more {w : World} {B C : Nat} {A : Option Addr} {l : List Fld} (h : AtF w B A l) (hC : B ≤ C) : AtF w C A l := fun hl => by
  obtain ⟨b, o, e, hB, hc⟩ := h hl
  exact ⟨b, o, e, by omega, hc⟩
theorem AtF.up {w w' : World} {A : Option Addr} {l : List Fld} (h : AtF w w.heap.size A l) (hb : Below w.heap.size w w') : AtF w' w'.heap.size A l := (h.below hb (Nat.le_refl _)).more hb.size
theorem AtF.pos {w : World} {B : Nat} {A : Option Addr} {l : List Fld} (h : AtF w B A l) (hl : 0 < l.length) : ∃ b o, A = some ⟨b, o, none⟩ ∧ b < B ∧ ∀ i (h : i < l.length), w.cell? ⟨b, o + i * 3, none⟩ = some (.string l[i].name) ∧ w.cell? ⟨b, o + i * 3 + 1, none⟩ = some (.string l[i].value) ∧ w.cell? ⟨b, o + i * 3 + 2, none⟩ = some (.bool l[i].never) :=
  h (List.length_pos_iff.1 hl)
theorem below_drewN {B : Nat} {w w' : World} (h : Below B w w') (n : Nat) : Below B w (w'.drewN n) := ⟨h.os, h.tape, h.output, h.size, h.block⟩
theorem cellsFd : Try.prog.cellsOf 33 = 3 := by kernel_rfl
theorem cellsStr : Try.prog.cellsOf 9 = 1 := by kernel_rfl
theorem cellsBool : Try.prog.cellsOf 4 = 1 := by kernel_rfl
/-- One field's cells, out of its reading. -/
theorem fld_of {H : Type} {enc : TypeId × Value → H} {W : World} {base n : Nat} {sp : Nat → Bool} {held : Bool} {cs : List Value} {x : DataW H × List MemPlace}
    (h : DataW.trod enc Try.prog W base sp held n 33 cs = some x) : ∃ f : Fld, cs = [.string f.name, .string f.value, .bool f.never] ∧ f.name.size ≤ maxLen ∧ f.value.size ≤ maxLen := by
  obtain ⟨y0, y1, y2, m, _, hl, h0, h1, h2⟩ := trod_struct3 Try.underlying33 h
  rw [cellsFd] at hl
  simp only [cellsStr, cellsBool] at h0 h1 h2
  match cs, hl with
  | [c0, c1, c2], _ =>
    obtain ⟨s0, e0, _, b0⟩ := DataW.trod_string Try.underlying9 h0
    obtain ⟨s1, e1, _, b1⟩ := DataW.trod_string Try.underlying9 h1
    obtain ⟨v2, e2, _⟩ := DataW.trod_bool Try.underlying4 h2
    simp at e0 e1 e2
    subst e0 e1 e2
    exact ⟨⟨s0, s1, v2⟩, rfl, b0, b1⟩
/-- A list of fields that came in. -/
theorem openedF {H : Type} {enc : TypeId × Value → H} {W : World} {a : Option Addr} {len cap : Nat} {d : DataW H} {p : List MemPlace}
    (h : DataW.Trod enc Try.prog W 0 (fun _ => true) true 43 (.slice a len cap) d p) :
    ∃ l : List Fld, l.length = len ∧ len ≤ cap ∧ (a = none → cap = 0) ∧ (∀ f ∈ l, f.name.size ≤ maxLen ∧ f.value.size ≤ maxLen) ∧ AtF W W.heap.size a l := by
  obtain ⟨fuel, hf⟩ := h
  rcases open_slice Try.underlying43 hf with ⟨hcs, _⟩ | ⟨ad, len', cap', m, n, D, Pl, hcs, _, hl, hm, hmm, _, hi⟩
  · simp [Value.cells] at hcs
    obtain ⟨rfl, rfl, rfl⟩ := hcs
    exact ⟨[], rfl, Nat.le_refl _, fun _ => rfl, fun f hf => by simp at hf, atF_nil _ _ _⟩
  · simp [Value.cells] at hcs
    obtain ⟨rfl, rfl, rfl⟩ := hcs
    rw [cellsFd] at hi
    simp only [if_true] at hmm
    subst hmm
    have hF : ∀ i, i < m → ∃ f : Fld, (f.name.size ≤ maxLen ∧ f.value.size ≤ maxLen) ∧ W.cell? ((ad.add (i * 3)).add 0) = some (.string f.name) ∧ W.cell? ((ad.add (i * 3)).add 1) = some (.string f.value) ∧ W.cell? ((ad.add (i * 3)).add 2) = some (.bool f.never) := by
      intro i him
      obtain ⟨cs', hc, ht⟩ := hi i him
      obtain ⟨f, rfl, b0, b1⟩ := fld_of ht
      obtain ⟨_, _, hat⟩ := World.cells?_some hc
      exact ⟨f, ⟨b0, b1⟩, by simpa using hat 0 (by omega), by simpa using hat 1 (by omega), by simpa using hat 2 (by omega)⟩
    have hC : ∃ F : Nat → Fld, ∀ i, i < m → ((F i).name.size ≤ maxLen ∧ (F i).value.size ≤ maxLen) ∧ W.cell? ((ad.add (i * 3)).add 0) = some (.string (F i).name) ∧ W.cell? ((ad.add (i * 3)).add 1) = some (.string (F i).value) ∧ W.cell? ((ad.add (i * 3)).add 2) = some (.bool (F i).never) := by
      refine ⟨fun i => if h : i < m then Classical.choose (hF i h) else ⟨ByteArray.empty, ByteArray.empty, false⟩, fun i h => ?_⟩
      simp only [dif_pos h]
      exact Classical.choose_spec (hF i h)
    obtain ⟨F, hFs⟩ := hC
    refine ⟨(List.range len).map F, by simp, hl, (fun h => by cases h), fun f hf => ?_, fun hne => ?_⟩
    · simp only [List.mem_map, List.mem_range] at hf
      obtain ⟨i, hi1, rfl⟩ := hf
      exact (hFs i (by omega)).1
    · have hpos : 0 < len := by
        rcases Nat.eq_zero_or_pos len with h0 | h0
        · subst h0; simp at hne
        · exact h0
      obtain ⟨b, o, spot⟩ := ad
      have hspot : spot = none := by simpa [Addr.add] using World.cell?_spot (hFs 0 (by omega)).2.1
      subst hspot
      refine ⟨b, o, rfl, ?_, fun i hi1 => ?_⟩
      · have h0 := (hFs 0 (by omega)).2.1
        have := World.block_lt_of_cell? W _ h0
        simpa [Addr.add] using this
      · have hi2 : i < len := by simpa using hi1
        obtain ⟨_, h0, h1, h2⟩ := hFs i (by omega)
        simp only [Go.WideShapes.add_plain] at h0 h1 h2
        simp only [List.getElem_map, List.getElem_range]
        exact ⟨h0, h1, h2⟩
end Go.Proofs.Ytjohchedckmadaa
