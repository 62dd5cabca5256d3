/- Words for memory: cells of numbers that lie somewhere; rows of the call's own. -/
import Derived.Test.YthaecckneblecaaDoorRows
import Derived.Test.YthaecckneblecaaDoorDig
import Derived.WalkKit
import Derived.WalkSpells
import Derived.WalkLawsBesides
import Derived.Laws.BitsAllLaws
import Derived.IntWalk
import Derived.RegionTactic
import Derived.Deep.QuietTactic
import Derived.BigQuiet
import Derived.Lib.Hide
namespace Go.Proofs.YthaecckneblecaaDoor
open Go.RowKit Sh

/-- The cells of numbers. -/
def cn (k : IntKind) (l : List Nat) : List Value := l.map fun (x : Nat) => Value.int k (x : Int)
theorem cn_len (k : IntKind) (l : List Nat) : (cn k l).length = l.length := by simp [cn]
theorem cn_at (k : IntKind) (l : List Nat) (i : Nat) (h : i < l.length) : (cn k l)[i]? = some (.int k (l[i] : Int)) := by simp [cn, h]
theorem cn_set (k : IntKind) (l : List Nat) (i x : Nat) : (cn k l).set i (.int k (x : Int)) = cn k (l.set i x) := by simp [cn]
theorem cn_one (k : IntKind) (l : List Nat) : ∀ u ∈ cn k l, u.oneCell' = true := by
  intro u hu; simp [cn] at hu; obtain ⟨y, _, rfl⟩ := hu; rfl
/-- The numbers l (of kind k) lie at A, below block B; where there is none, A is whatever. -/
def At (k : IntKind) (w : World) (B : Nat) (A : Option Addr) (l : List Nat) : Prop :=
  l ≠ [] → ∃ b o, A = some ⟨b, o, none⟩ ∧ b < B ∧ ∀ i (h : i < l.length), w.cell? ⟨b, o + i, none⟩ = some (.int k (l[i] : Int))
section
variable {k : IntKind} {w w' : World} {B C : Nat} {A : Option Addr} {l : List Nat}
theorem At.below (h : At k w B A l) (hb : Below C w w') (hC : B ≤ C) : At k w' B A l := fun hl => by
  obtain ⟨b, o, e, hB, hc⟩ := h hl
  exact ⟨b, o, e, hB, fun i hi => (hb.cell (p := ⟨b, o + i, none⟩) (by show b < C; omega)).trans (hc i hi)⟩
theorem At.more (h : At k w B A l) (hC : B ≤ C) : At k w C A l := fun hl => by
  obtain ⟨b, o, e, hB, hc⟩ := h hl
  exact ⟨b, o, e, by omega, hc⟩
theorem At.pos (h : At k w B A l) (hl : 0 < l.length) : ∃ b o, A = some ⟨b, o, none⟩ ∧ b < B ∧ ∀ i (h : i < l.length), w.cell? ⟨b, o + i, none⟩ = some (.int k (l[i] : Int)) :=
  h (List.length_pos_iff.1 hl)
theorem At.of_own {T n c : Nat} (h : w.ownsRow B T 1 (.slice A n c) n (cn k l)) : At k w w.heap.size A l := fun hl => by
  have hlen : l.length = n := by simpa [cn] using h.1
  have hpos : 0 < l.length := List.length_pos_iff.2 hl
  rcases h.2 with ⟨he, hn⟩ | ⟨g, cap, cur, he, hB, hh, _⟩
  · omega
  · injection he with hA _ hc
    subst hA
    subst hc
    refine ⟨g, 0, rfl, ?_, fun i hi => ?_⟩
    · rcases Nat.lt_or_ge g w.heap.size with hlt | hge
      · exact hlt
      · rw [Array.getElem?_eq_none hge] at hh; cases hh
    · rw [Nat.zero_add, h.cellAt i (by omega)]
      simp [cn, hi]
theorem At.new (w : World) (l : List Nat) (T : TypeId) (fr : Nat × Nat) : At k (w.alloc (.cells (cn k l).toArray T fr)) (w.alloc (.cells (cn k l).toArray T fr)).heap.size (some ⟨w.heap.size, 0, none⟩) l := fun _ => by
  refine ⟨w.heap.size, 0, rfl, by simp, fun i hi => ?_⟩
  rw [cell_of_row _ w.heap.size (0 + i) _ T fr (heap_alloc_new w _)]
  simp [cn, hi]
end
theorem own_shape {w : World} {B T : Nat} {v : Value} {n : Nat} {xs : List Value} (h : w.ownsRow B T 1 v n xs) : ∃ A c, v = .slice A n c := by
  rcases h.2 with ⟨rfl, hn⟩ | ⟨g, cap, _, rfl, _⟩
  · exact ⟨none, 0, by rw [hn]⟩
  · exact ⟨_, cap, rfl⟩
theorem own_block {w : World} {B T : Nat} {v : Value} {n : Nat} {xs : List Value} (h : w.ownsRow B T 1 v n xs) : ∀ k, v.ownBlock = some k → B ≤ k := by
  intro k hk
  rcases h.2 with ⟨rfl, hn⟩ | ⟨g, cap, _, rfl, hB, _⟩
  · cases hk
  · injection hk with hk
    subst hk
    exact hB
theorem own_keep {wr w' : World} {B T : Nat} {v : Value} {n : Nat} {xs : List Value} (h : wr.ownsRow B T 1 v n xs) (hb : Below wr.heap.size wr w') : w'.ownsRow B T 1 v n xs := by
  refine ⟨h.1, ?_⟩
  rcases h.2 with h0 | ⟨g, cap, cur, hv, hB, hh, r⟩
  · exact .inl h0
  · refine .inr ⟨g, cap, cur, hv, hB, ?_, r⟩
    rw [hb.block g ?_, hh]
    rcases Nat.lt_or_ge g wr.heap.size with hlt | hge
    · exact hlt
    · rw [Array.getElem?_eq_none hge] at hh; cases hh
theorem ret_int {k : IntKind} {a b : Int} (h : a = b) : Ending.returned (.int k a) = .returned (.int k b) := by rw [h]
theorem ret_bool {a b : Bool} (h : a = b) : Ending.returned (.bool a) = .returned (.bool b) := by rw [h]
theorem infoU64 : (Tryd.prog.info? 34).map (fun i => (i.zero, i.size, i.bytes)) = some (some (.int .u64 0), 1, 8) := by kernel_rfl
end Go.Proofs.YthaecckneblecaaDoor
