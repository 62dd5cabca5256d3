/- dyn's faces over the landed code, as far as stage 8 wants them. -/
import Derived.Test.YtlnppbnbjeakhaaDoorDRef2
import Derived.Test.YtlnppbnbjeakhaaDoorLDGet
import Derived.Test.YtlnppbnbjeakhaaDoorLDLimit
import Derived.Test.YtlnppbnbjeakhaaDoorLDAdd
import Derived.Test.YtlnppbnbjeakhaaDoorUNoNev
import Derived.Test.YtlnppbnbjeakhaaDoorLRowF

/- The landed decoder in memory: its table, is it dead. Once it is dead, its table is some table. -/
namespace Go.Proofs.YtlnppbnbjeakhaaDoor
open Go.RowKit

/-- The program's decoder lies at block p, its table at t; S: the blocks that are its own. -/
def UD1 (w : World) (S : Nat → Prop) (p t m : Nat) (L : List Fld) (dead : Bool) : Prop :=
  ∃ S1, w.heap[p]? = some (.cells #[.pointer (some ⟨t, 0, none⟩), .bool dead] 52 (0, 0)) ∧ DT w S1 t m L ∧ ¬ S1 p ∧ (∀ x, S x ↔ x = p ∨ S1 x) ∧ Free S ∧ NoNev L
/-- So; of a dead one the table is any. -/
def UD (w : World) (S : Nat → Prop) (p t m : Nat) (L : List Fld) (dead : Bool) : Prop := ∃ m1 L1, UD1 w S p t m1 L1 dead ∧ (dead = false → m1 = m ∧ L1 = L)
section
variable {w w' : World} {S S' : Nat → Prop} {p t m : Nat} {L : List Fld} {dead : Bool}
theorem UD1.lt (h : UD1 w S p t m L dead) : p < w.heap.size := by
  obtain ⟨S1, hh, _⟩ := h
  exact lt_of_heap hh
theorem UD1.low (h : UD1 w S p t m L dead) : ∀ x, S x → x < w.heap.size := by
  obtain ⟨S1, hh, hT, hn, hS, _⟩ := h
  intro x hx
  rcases (hS x).1 hx with rfl | h
  · exact lt_of_heap hh
  · exact hT.low x h
theorem UD1.keep (h : UD1 w S p t m L dead) (hk : Keeps S' w w') (hd : ∀ x, S x → ¬ S' x) : UD1 w' S p t m L dead := by
  have hp := h.lt
  obtain ⟨S1, hh, hT, hn, hS, hF⟩ := h
  exact ⟨S1, (hk.block p hp (hd p ((hS p).2 (.inl rfl)))).trans hh, hT.keep hk (fun x hx => hd x ((hS x).2 (.inr hx))), hn, hS, hF⟩
theorem UD1.quiet (h : UD1 w S p t m L dead) (hb : Below w.heap.size w w') : UD1 w' S p t m L dead := h.keep (S' := fun _ => False) (Keeps.of_below hb) (fun _ _ h => h)
theorem UD.low (h : UD w S p t m L dead) : ∀ x, S x → x < w.heap.size := by
  obtain ⟨m1, L1, h, _⟩ := h
  exact h.low
theorem UD.keep (h : UD w S p t m L dead) (hk : Keeps S' w w') (hd : ∀ x, S x → ¬ S' x) : UD w' S p t m L dead := by
  obtain ⟨m1, L1, h, he⟩ := h
  exact ⟨m1, L1, h.keep hk hd, he⟩
theorem UD.quiet (h : UD w S p t m L dead) (hb : Below w.heap.size w w') : UD w' S p t m L dead := h.keep (S' := fun _ => False) (Keeps.of_below hb) (fun _ _ h => h)
/-- Its table, for reading. -/
theorem UD.dt (h : UD w S p t m L dead) : ∃ S2 m1 L1, DT w S2 t m1 L1 ∧ (dead = false → m1 = m ∧ L1 = L) := by
  obtain ⟨m1, L1, ⟨S1, _, hT, _⟩, he⟩ := h
  exact ⟨S1, m1, L1, hT, he⟩
theorem UD1.whole (h : UD1 w S p t m L dead) : UD w S p t m L dead := ⟨m, L, h, fun _ => ⟨rfl, rfl⟩⟩
end
/-- What a block hands back of the program's decoder: fields in new memory, what went wrong; the decoder then. -/
def UPost (S : Nat → Prop) (w : World) (p t : Nat) (r : Blk) (e : Ending) (w' : World) : Prop :=
  ∃ S' A c, e = .returned (.tuple #[.slice A r.out.length c, .int .i64 ((r.err : Nat) : Int)]) ∧ UD w' S' p t r.most r.tab r.dead ∧ (∀ x, S' x → S x ∨ w.heap.size ≤ x) ∧ Keeps S w w' ∧ AtF w' w'.heap.size A r.out ∧ (A = none → c = 0) ∧ r.out.length ≤ c ∧ (∀ b o s, A = some ⟨b, o, s⟩ → w.heap.size ≤ b ∧ ¬ S' b)
set_option maxRecDepth 100000 in
theorem utab_f (w : World) (_ : Rdy w) (S : Nat → Prop) (p t m : Nat) (L : List Fld) (dead : Bool) (hU : UD w S p t m L dead) : Calls Tryd.prog 16 #[.pointer (some ⟨p, 0, none⟩)] w fun e w' => e = .returned (.pointer (some ⟨t, 0, none⟩)) ∧ Below w.heap.size w w' := by
  obtain ⟨m1, L1, ⟨S1, hh, _⟩, _⟩ := hU
  have x0 : w.cell? ⟨p, 0, none⟩ = some (.pointer (some ⟨t, 0, none⟩)) := cell_of_row _ p 0 _ 52 _ hh
  clear hh
  go_enter Tryd.func16, Tryd.ntmps16
  go_wp2
  go_ret
  exact ⟨rfl, Below.refl _ _⟩
set_option maxRecDepth 100000 in
theorem udead_f (w : World) (_ : Rdy w) (S : Nat → Prop) (p t m : Nat) (L : List Fld) (dead : Bool) (hU : UD w S p t m L dead) : Calls Tryd.prog 14 #[.pointer (some ⟨p, 0, none⟩)] w (BoolPost w dead) := by
  obtain ⟨m1, L1, ⟨S1, hh, _⟩, _⟩ := hU
  have x1 : w.cell? ⟨p, 1, none⟩ = some (.bool dead) := cell_of_row _ p 1 _ 52 _ hh
  clear hh
  go_enter Tryd.func14, Tryd.ntmps14
  go_wp2
  go_ret
  exact ⟨rfl, Below.refl _ _⟩
set_option maxRecDepth 100000 in
theorem unew_f (w : World) (hR : Rdy w) : Calls Tryd.prog 9 #[] w fun e w' => ∃ p t S, e = .returned (.pointer (some ⟨p, 0, none⟩)) ∧ UD w' S p t 4096 [] false ∧ (∀ x, S x → w.heap.size ≤ x) ∧ Below w.heap.size w w' := by
  have hN := dnew_ok 4096 w hR (Nat.le_refl _)
  rw [show ((4096 : Nat) : Int) = 4096 from rfl] at hN
  have HN := Lib.hid hN
  have HR := Lib.hid hR
  clear hR hN
  go_enter Tryd.func9, Tryd.ntmps9
  go_wp2_with fail
  with_reducible refine (HN.out).mono ?_
  rintro e w1 ⟨t, S1, rfl, hT, hS1, hb1⟩
  have HT := Lib.hid hT
  have HS := Lib.hid hS1
  have HB := Lib.hid hb1
  clear hT hS1 hb1 HN
  go_wp2
  go_ret
  have hb2 : Below w1.heap.size w1 (w1.alloc (.cells #[.pointer (some ⟨t, 0, none⟩), .bool false] 52)) := (Below.refl _ _).alloc (Nat.le_refl _) _
  refine ⟨w1.heap.size, t, fun x => x = w1.heap.size ∨ S1 x, rfl, UD1.whole ⟨S1, heap_alloc_new w1 _, HT.out.keep (S' := fun _ => False) (Keeps.of_below hb2) (fun _ _ h => h), fun h => ?_, fun x => Iff.rfl, Free.new HR.out (fun x hx => ?_), NoNev.nil⟩, fun x hx => ?_, HB.out.trans (hb2.mono HB.out.size)⟩
  · have := HT.out.low _ h
    omega
  · rcases hx with rfl | hx
    · exact HB.out.size
    · exact HS.out x hx
  · rcases hx with rfl | hx
    · exact HB.out.size
    · exact HS.out x hx
end Go.Proofs.YtlnppbnbjeakhaaDoor
