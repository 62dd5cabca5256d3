/- Two tables side by side: the program's and the document's own, their blocks apart. -/
import Derived.Test.YtjohchedckmadaaDFits2
namespace Go.Proofs.Ytjohchedckmadaa
open Go.RowKit

/-- Since w both tables were made out of new blocks; X: blocks that are neither's. -/
def Two (w : World) (p q m1 m2 : Nat) (l1 l2 : List Fld) (X : Nat → Prop) (wr : World) : Prop :=
  ∃ S T, DT wr S p m1 l1 ∧ RT wr T q m2 l2 ∧ (∀ x, S x → w.heap.size ≤ x) ∧ (∀ x, T x → w.heap.size ≤ x) ∧ (∀ x, S x → ¬ T x) ∧ (∀ x, X x → x < wr.heap.size ∧ ¬ S x ∧ ¬ T x) ∧ Below w.heap.size w wr
section
variable {w wr w' : World} {p q m1 m2 : Nat} {l1 l2 : List Fld} {X : Nat → Prop}
theorem Two.below (h : Two w p q m1 m2 l1 l2 X wr) : Below w.heap.size w wr := by
  obtain ⟨_, _, _, _, _, _, _, _, h⟩ := h
  exact h
theorem Two.fits (h : Two w p q m1 m2 l1 l2 X wr) : tot l1 ≤ m1 ∧ m1 ≤ 4096 := by
  obtain ⟨_, _, h, _⟩ := h
  exact h.fits
theorem Two.dt (h : Two w p q m1 m2 l1 l2 X wr) : ∃ S, DT wr S p m1 l1 := by
  obtain ⟨S, _, h, _⟩ := h
  exact ⟨S, h⟩
theorem Two.rt (h : Two w p q m1 m2 l1 l2 X wr) : ∃ T, RT wr T q m2 l2 := by
  obtain ⟨_, T, _, h, _⟩ := h
  exact ⟨T, h⟩
theorem Two.less (h : Two w p q m1 m2 l1 l2 X wr) : Two w p q m1 m2 l1 l2 (fun _ => False) wr := by
  obtain ⟨S, T, h1, h2, h3, h4, h5, _, h7⟩ := h
  exact ⟨S, T, h1, h2, h3, h4, h5, fun _ h => h.elim, h7⟩
theorem Two.quiet (h : Two w p q m1 m2 l1 l2 X wr) (hb : Below wr.heap.size wr w') : Two w p q m1 m2 l1 l2 X w' := by
  obtain ⟨S, T, h1, h2, h3, h4, h5, h6, h7⟩ := h
  exact ⟨S, T, h1.keep (S' := fun _ => False) (Keeps.of_below hb) (fun _ _ h => h), h2.keep (S' := fun _ => False) (Keeps.of_below hb) (fun _ _ h => h), h3, h4, h5, fun x hx => ⟨Nat.lt_of_lt_of_le (h6 x hx).1 hb.size, (h6 x hx).2⟩, h7.trans (hb.mono h7.size)⟩
/-- A new block is neither's. -/
theorem Two.block (h : Two w p q m1 m2 l1 l2 X wr) (o : Obj) : Two w p q m1 m2 l1 l2 (fun x => x = wr.heap.size) (wr.alloc o) := by
  have hb : Below wr.heap.size wr (wr.alloc o) := (Below.refl _ _).alloc (Nat.le_refl _) o
  obtain ⟨S, T, h1, h2, h3, h4, h5, h6, h7⟩ := h
  refine ⟨S, T, h1.keep (S' := fun _ => False) (Keeps.of_below hb) (fun _ _ h => h), h2.keep (S' := fun _ => False) (Keeps.of_below hb) (fun _ _ h => h), h3, h4, h5, fun x hx => ?_, h7.trans (hb.mono h7.size)⟩
  refine ⟨by rw [hx]; simp, fun hs => ?_, fun ht => ?_⟩
  · have := h1.low x hs
    omega
  · have := h2.low x ht
    omega
/-- What a method of the program's table leaves of both. -/
theorem Two.postD {S T : Nat → Prop} {m3 : Nat} {l3 : List Fld} (h2 : RT wr T q m2 l2) (h3 : ∀ x, S x → w.heap.size ≤ x) (h4 : ∀ x, T x → w.heap.size ≤ x) (h5 : ∀ x, S x → ¬ T x) (h6 : ∀ x, X x → x < wr.heap.size ∧ ¬ S x ∧ ¬ T x) (h7 : Below w.heap.size w wr) (hP : DPost S wr p m3 l3 w') :
    Two w p q m3 m2 l3 l2 X w' ∧ ∀ x, X x → w'.heap[x]? = wr.heap[x]? := by
  obtain ⟨S', hT, hS', hK⟩ := hP
  refine ⟨⟨S', T, hT, h2.keep hK (fun x hx hs => h5 x hs hx), fun x hx => ?_, h4, fun x hx ht => ?_, fun x hx => ⟨Nat.lt_of_lt_of_le (h6 x hx).1 hK.size, fun hs => ?_, (h6 x hx).2.2⟩, h7.trans (hK.below h3 h7.size)⟩, fun x hx => hK.block x (h6 x hx).1 (h6 x hx).2.1⟩
  · rcases hS' x hx with h | h
    · exact h3 x h
    · exact Nat.le_trans h7.size h
  · rcases hS' x hx with h | h
    · exact h5 x h ht
    · have := h2.low x ht
      omega
  · rcases hS' x hs with h | h
    · exact (h6 x hx).2.1 h
    · have := (h6 x hx).1
      omega
/-- What a method of the document's table leaves of both. -/
theorem Two.postR {S T : Nat → Prop} {m3 : Nat} {l3 : List Fld} (h1 : DT wr S p m1 l1) (h3 : ∀ x, S x → w.heap.size ≤ x) (h4 : ∀ x, T x → w.heap.size ≤ x) (h5 : ∀ x, S x → ¬ T x) (h6 : ∀ x, X x → x < wr.heap.size ∧ ¬ S x ∧ ¬ T x) (h7 : Below w.heap.size w wr) (hP : TPost T wr q m3 l3 w') :
    Two w p q m1 m3 l1 l3 X w' ∧ ∀ x, X x → w'.heap[x]? = wr.heap[x]? := by
  obtain ⟨T', hT, hT', hK⟩ := hP
  refine ⟨⟨S, T', h1.keep hK (fun x hx ht => h5 x hx ht), hT, h3, fun x hx => ?_, fun x hs hx => ?_, fun x hx => ⟨Nat.lt_of_lt_of_le (h6 x hx).1 hK.size, (h6 x hx).2.1, fun hs => ?_⟩, h7.trans (hK.below h4 h7.size)⟩, fun x hx => hK.block x (h6 x hx).1 (h6 x hx).2.2⟩
  · rcases hT' x hx with h | h
    · exact h4 x h
    · exact Nat.le_trans h7.size h
  · rcases hT' x hx with h | h
    · exact h5 x hs h
    · have := h1.low x hs
      omega
  · rcases hT' x hs with h | h
    · exact (h6 x hx).2.2 h
    · have := (h6 x hx).1
      omega
theorem Two.add (h : Two w p q m1 m2 l1 l2 X wr) (hR : Rdy wr) (f : Fld) (hf : fsize f ≤ 46400) : Calls Try.prog 11 #[.pointer (some ⟨p, 0, none⟩), .agg #[.string f.name, .string f.value, .bool f.never]] wr fun e w' => e = .returned (.tuple #[]) ∧ Two w p q m1 m2 (addL m1 f l1) l2 X w' ∧ ∀ x, X x → w'.heap[x]? = wr.heap[x]? := by
  obtain ⟨S, T, h1, h2, h3, h4, h5, h6, h7⟩ := h
  refine (dadd_f wr S p m1 l1 f hR h1 hf).mono ?_
  rintro e w1 ⟨rfl, hP⟩
  exact ⟨rfl, Two.postD h2 h3 h4 h5 h6 h7 hP⟩
theorem Two.radd (h : Two w p q m1 m2 l1 l2 X wr) (hm : tot l2 ≤ 46400) (f : Fld) (hf : fsize f ≤ 46400) : Calls Try.prog 12 #[.pointer (some ⟨q, 0, none⟩), .agg #[.string f.name, .string f.value, .bool f.never]] wr fun e w' => e = .returned (.tuple #[]) ∧ Two w p q m1 m2 l1 (addL m2 f l2) X w' ∧ ∀ x, X x → w'.heap[x]? = wr.heap[x]? := by
  obtain ⟨S, T, h1, h2, h3, h4, h5, h6, h7⟩ := h
  refine (radd_any wr T q m2 l2 f h2 hm hf).mono ?_
  rintro e w1 ⟨rfl, hP⟩
  exact ⟨rfl, Two.postR h1 h3 h4 h5 h6 h7 hP⟩
theorem Two.limit (h : Two w p q m1 m2 l1 l2 X wr) (hR : Rdy wr) (k : Nat) (hk : k ≤ 4096) : Calls Try.prog 13 #[.pointer (some ⟨p, 0, none⟩), .int .i64 (k : Int)] wr fun e w' => e = .returned (.int .i64 0) ∧ Two w p q k m2 (fitL k l1) l2 X w' ∧ ∀ x, X x → w'.heap[x]? = wr.heap[x]? := by
  obtain ⟨S, T, h1, h2, h3, h4, h5, h6, h7⟩ := h
  refine (dlimit_ok wr S p m1 k l1 hR h1 hk).mono ?_
  rintro e w1 ⟨rfl, hP⟩
  exact ⟨rfl, Two.postD h2 h3 h4 h5 h6 h7 hP⟩
theorem Two.rlimit (h : Two w p q m1 m2 l1 l2 X wr) (k : Nat) (hk : k ≤ 4096) : Calls Try.prog 14 #[.pointer (some ⟨q, 0, none⟩), .int .i64 (k : Int)] wr fun e w' => e = .returned (.int .i64 0) ∧ Two w p q m1 k l1 (fitL k l2) X w' ∧ ∀ x, X x → w'.heap[x]? = wr.heap[x]? := by
  obtain ⟨S, T, h1, h2, h3, h4, h5, h6, h7⟩ := h
  refine (rlimit_ok wr T q m2 k l2 h2 hk).mono ?_
  rintro e w1 ⟨rfl, hP⟩
  exact ⟨rfl, Two.postR h1 h3 h4 h5 h6 h7 hP⟩
theorem Two.limit_no (h : Two w p q m1 m2 l1 l2 X wr) (hR : Rdy wr) (k : Int) (hk : k < 0 ∨ 4096 < k) (hr : Rng k) : Calls Try.prog 13 #[.pointer (some ⟨p, 0, none⟩), .int .i64 k] wr fun e w' => e = .returned (.int .i64 1) ∧ Two w p q m1 m2 l1 l2 X w' ∧ ∀ x, X x → w'.heap[x]? = wr.heap[x]? := by
  obtain ⟨S, hT⟩ := h.dt
  obtain ⟨_, _, _, _, _, _, _, h6, _⟩ := id h
  refine (dlimit_no wr S p m1 k l1 hR hT hk hr).mono ?_
  rintro e w1 ⟨rfl, hb⟩
  exact ⟨rfl, h.quiet hb, fun x hx => hb.block x (h6 x hx).1⟩
end
end Go.Proofs.Ytjohchedckmadaa
