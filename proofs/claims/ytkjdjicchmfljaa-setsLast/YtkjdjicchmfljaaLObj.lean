/- Objects in memory: only an object's own blocks turn. From stage 7 on. -/
import Derived.Test.YtkjdjicchmfljaaRows
import Derived.Below
namespace Go.Proofs.Ytkjdjicchmfljaa
open Go.RowKit

/-- Only blocks of S, and new ones, have turned. -/
structure Keeps (S : Nat → Prop) (w w' : World) : Prop where
  os : w'.os = w.os
  tape : w'.tape = w.tape
  output : w'.output = w.output
  size : w.heap.size ≤ w'.heap.size
  block : ∀ k, k < w.heap.size → ¬ S k → w'.heap[k]? = w.heap[k]?
section
variable {S S' : Nat → Prop} {a b c w w' : World} {B : Nat}
theorem Keeps.refl (S : Nat → Prop) (w : World) : Keeps S w w := ⟨rfl, rfl, rfl, Nat.le_refl _, fun _ _ _ => rfl⟩
theorem Keeps.of_below (h : Below w.heap.size w w') : Keeps S w w' := ⟨h.os, h.tape, h.output, h.size, fun k hk _ => h.block k hk⟩
theorem Keeps.trans (h : Keeps S a b) (k : Keeps S' b c) (hS : ∀ x, S' x → x < a.heap.size → S x) : Keeps S a c :=
  ⟨k.os.trans h.os, k.tape.trans h.tape, k.output.trans h.output, Nat.le_trans h.size k.size, fun i hi hn => (k.block i (Nat.lt_of_lt_of_le hi h.size) (fun hs => hn (hS i hs hi))).trans (h.block i hi hn)⟩
theorem Keeps.mono (h : Keeps S w w') (hS : ∀ x, x < w.heap.size → S x → S' x) : Keeps S' w w' := ⟨h.os, h.tape, h.output, h.size, fun k hk hn => h.block k hk (fun hs => hn (hS k hk hs))⟩
theorem Keeps.below (h : Keeps S w w') (hB : ∀ k, S k → B ≤ k) (hs : B ≤ w.heap.size) : Below B w w' := ⟨h.os, h.tape, h.output, h.size, fun k hk => h.block k (by omega) (fun hS => by have := hB k hS; omega)⟩
theorem Keeps.cell (h : Keeps S w w') {p : Addr} (hp : p.block < w.heap.size) (hn : ¬ S p.block) : w'.cell? p = w.cell? p := World.cell?_of_block (w := w) (h.block p.block hp hn)
theorem Keeps.frozen (h : Keeps S w w') {p : Addr} (hp : p.block < w.heap.size) (hn : ¬ S p.block) : w'.frozen? p = w.frozen? p := World.frozen?_of_block (w := w) (h.block p.block hp hn)
theorem Keeps.drew (h : Keeps S a w) : Keeps S a w.drew := ⟨h.os, h.tape, h.output, h.size, h.block⟩
theorem Keeps.alloc (h : Keeps S a w) (o : Obj) : Keeps S a (w.alloc o) := h.trans (S' := S) (Keeps.of_below ((Below.refl _ _).alloc (Nat.le_refl _) o)) (fun _ h _ => h)
theorem Keeps.setCell (h : Keeps S a w) {p : Addr} (hp : S p.block) (u : Value) : Keeps S a (w.setCell p u) :=
  h.trans (S' := S) ⟨rfl, rfl, rfl, by simp [World.setCell], fun k _ hn => Below.heap_setCell w p u k (fun e => hn (e ▸ hp))⟩ (fun _ h _ => h)
end
end Go.Proofs.Ytkjdjicchmfljaa
