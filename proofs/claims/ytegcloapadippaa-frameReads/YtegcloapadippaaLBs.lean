/- Lists of byte slices that come in ([][]byte). -/
import Derived.Test.YtegcloapadippaaLIn
import Derived.Deep.Slices
namespace Go.Proofs.Ytegcloapadippaa
open Go.ChangeShapes Go.WideShapes Go.ChangeAt Go.RowKit Go.Deep

/-- A slice of bytes as it lies: where, its bytes, its room. -/
structure Sl where
  ad : Option Addr
  bytes : List Nat
  cap : Nat
/-- It is well laid, below block B. -/
def Sl.ok (s : Sl) (w : World) (B : Nat) : Prop := At .u8 w B s.ad s.bytes ∧ (∀ x ∈ s.bytes, x < 256) ∧ (s.ad = none → s.cap = 0) ∧ s.bytes.length ≤ s.cap
def AtL (w : World) (B : Nat) (A : Option Addr) (l : List Sl) : Prop :=
  l ≠ [] → ∃ b o, A = some ⟨b, o, none⟩ ∧ b < B ∧ ∀ i (h : i < l.length), w.cell? ⟨b, o + i, none⟩ = some (.slice l[i].ad l[i].bytes.length l[i].cap) ∧ l[i].ok w B
theorem Sl.ok.up {s : Sl} {w w' : World} (h : s.ok w w.heap.size) (hb : Below w.heap.size w w') : s.ok w' w'.heap.size := ⟨h.1.up hb, h.2.1, h.2.2.1, h.2.2.2⟩
theorem cellsBs : Try.prog.cellsOf 25 = 1 := by kernel_rfl
theorem openedL {H : Type} {enc : TypeId × Value → H} {W : World} {a : Option Addr} {len cap : Nat} {d : DataW H} {p : List MemPlace}
    (h : DataW.Trod enc Try.prog W 0 (fun _ => true) true 33 (.slice a len cap) d p) :
    ∃ l : List Sl, l.length = len ∧ len ≤ cap ∧ (a = none → cap = 0) ∧ AtL W W.heap.size a l := by
  obtain ⟨fuel, hf⟩ := h
  rcases open_slice Try.underlying33 hf with ⟨hcs, _⟩ | ⟨ad, len', cap', m, n, D, Pl, hcs, _, hl, hm, hmm, _, hi⟩
  · simp [Value.cells] at hcs
    obtain ⟨rfl, rfl, rfl⟩ := hcs
    exact ⟨[], rfl, Nat.le_refl _, fun _ => rfl, fun h => absurd rfl h⟩
  · simp [Value.cells] at hcs
    obtain ⟨rfl, rfl, rfl⟩ := hcs
    rw [cellsBs] at hi
    simp only [if_true] at hmm
    subst hmm
    have hF : ∀ i, i < m → ∃ s : Sl, s.ok W W.heap.size ∧ W.cell? ((ad.add (i * 1)).add 0) = some (.slice s.ad s.bytes.length s.cap) := by
      intro i him
      obtain ⟨cs', hc, ht⟩ := hi i him
      obtain ⟨_, hlen, hat⟩ := World.cells?_some hc
      have h0 := hat 0 (by omega)
      have hex : ∃ a2 l2 c2, cs' = [.slice a2 l2 c2] := by
        rcases open_slice Try.underlying25 ht with ⟨e, _⟩ | ⟨ad2, l2, c2, _, _, _, _, e, _⟩
        · exact ⟨none, 0, 0, e⟩
        · exact ⟨some ad2, l2, c2, e⟩
      obtain ⟨a2, l2, c2, rfl⟩ := hex
      have hT : DataW.Trod enc Try.prog W 0 (fun _ => true) true 25 (.slice a2 l2 c2) (D i) (Pl i) := ⟨_, ht⟩
      obtain ⟨l, rfl, h1, h2, h3, h4⟩ := opened hT
      exact ⟨⟨a2, l, c2⟩, ⟨h4, h3, h2, h1⟩, by simpa using h0⟩
    have hC : ∃ F : Nat → Sl, ∀ i, i < m → (F i).ok W W.heap.size ∧ W.cell? ((ad.add (i * 1)).add 0) = some (.slice (F i).ad (F i).bytes.length (F i).cap) := by
      refine ⟨fun i => if h : i < m then Classical.choose (hF i h) else ⟨none, [], 0⟩, fun i h => ?_⟩
      simp only [dif_pos h]
      exact Classical.choose_spec (hF i h)
    obtain ⟨F, hFs⟩ := hC
    refine ⟨(List.range len).map F, by simp, hl, (fun h => by cases h), fun hne => ?_⟩
    have hpos : 0 < len := by
      rcases Nat.eq_zero_or_pos len with h0 | h0
      · subst h0; simp at hne
      · exact h0
    obtain ⟨b, o, spot⟩ := ad
    have hspot : spot = none := by simpa [Addr.add] using World.cell?_spot (hFs 0 (by omega)).2
    subst hspot
    refine ⟨b, o, rfl, ?_, fun i hi1 => ?_⟩
    · have h0 := (hFs 0 (by omega)).2
      have := World.block_lt_of_cell? W _ h0
      simpa [Addr.add] using this
    · have hi2 : i < len := by simpa using hi1
      obtain ⟨h1, h2⟩ := hFs i (by omega)
      simp only [Go.WideShapes.add_plain] at h2
      simp only [List.getElem_map, List.getElem_range]
      exact ⟨by simpa using h2, h1⟩
end Go.Proofs.Ytegcloapadippaa
