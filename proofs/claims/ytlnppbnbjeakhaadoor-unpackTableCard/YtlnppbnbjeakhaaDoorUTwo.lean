/- Two decoders side by side: the program's and the document's own, their blocks apart. -/
import Derived.Test.YtlnppbnbjeakhaaDoorUHelp
import Derived.Test.YtlnppbnbjeakhaaDoorLBs
import Derived.Test.YtlnppbnbjeakhaaDoorURBlock2
namespace Go.Proofs.YtlnppbnbjeakhaaDoor
open Go.RowKit

/-- Since w both decoders were made out of new blocks; the document's lie below block N. -/
def TwoU (w : World) (p t r q N : Nat) (m1 m2 : Nat) (L1 L2 : List Fld) (d1 d2 : Bool) (wr : World) : Prop :=
  ∃ S T, UD wr S p t m1 L1 d1 ∧ RD wr T r q m2 L2 d2 ∧ (∀ x, S x → w.heap.size ≤ x) ∧ (∀ x, T x → w.heap.size ≤ x) ∧ (∀ x, S x → ¬ T x) ∧ (∀ x, T x → x < N) ∧ Below w.heap.size w wr
section
variable {w wr w' : World} {p t r q N m1 m2 : Nat} {L1 L2 : List Fld} {d1 d2 : Bool}
theorem AtF.keeps {S : Nat → Prop} {A : Option Addr} {l : List Fld} (h : AtF wr wr.heap.size A l) (hk : Keeps S wr w') (hn : ∀ b o s, A = some ⟨b, o, s⟩ → ¬ S b) : AtF w' w'.heap.size A l := fun hl => by
  obtain ⟨b, o, rfl, hb, hc⟩ := h hl
  have hs := hn b o none rfl
  refine ⟨b, o, rfl, Nat.lt_of_lt_of_le hb hk.size, fun i hi => ?_⟩
  obtain ⟨c0, c1, c2⟩ := hc i hi
  exact ⟨(hk.cell (p := ⟨b, o + i * 3, none⟩) hb hs).trans c0, (hk.cell (p := ⟨b, o + i * 3 + 1, none⟩) hb hs).trans c1, (hk.cell (p := ⟨b, o + i * 3 + 2, none⟩) hb hs).trans c2⟩
theorem TwoU.below (h : TwoU w p t r q N m1 m2 L1 L2 d1 d2 wr) : Below w.heap.size w wr := by
  obtain ⟨_, _, _, _, _, _, _, _, h⟩ := h
  exact h
theorem TwoU.ud (h : TwoU w p t r q N m1 m2 L1 L2 d1 d2 wr) : ∃ S, UD wr S p t m1 L1 d1 := by
  obtain ⟨S, _, h, _⟩ := h
  exact ⟨S, h⟩
theorem TwoU.rd (h : TwoU w p t r q N m1 m2 L1 L2 d1 d2 wr) : ∃ T, RD wr T r q m2 L2 d2 := by
  obtain ⟨_, T, _, h, _⟩ := h
  exact ⟨T, h⟩
theorem TwoU.quiet (h : TwoU w p t r q N m1 m2 L1 L2 d1 d2 wr) (hb : Below wr.heap.size wr w') : TwoU w p t r q N m1 m2 L1 L2 d1 d2 w' := by
  obtain ⟨S, T, h1, h2, h3, h4, h5, h6, h7⟩ := h
  exact ⟨S, T, h1.quiet hb, h2.quiet hb, h3, h4, h5, h6, h7.trans (hb.mono h7.size)⟩
theorem TwoU.decA (h : TwoU w p t r q N m1 m2 L1 L2 d1 d2 wr) (hR : Rdy wr) (s : Sl) (hs : s.ok w w.heap.size) (hn : s.bytes.length ≤ 100000) (room : Int) (hr : Rng room) :
    Calls Tryd.prog 11 #[.pointer (some ⟨p, 0, none⟩), .slice s.ad s.bytes.length s.cap, .int .i64 room] wr fun e w' => ∃ A c, e = .returned (.tuple #[.slice A (udec s.bytes room d1 m1 L1).out.length c, .int .i64 (((udec s.bytes room d1 m1 L1).err : Nat) : Int)]) ∧ TwoU w p t r q wr.heap.size (udec s.bytes room d1 m1 L1).most m2 (udec s.bytes room d1 m1 L1).tab L2 (udec s.bytes room d1 m1 L1).dead d2 w' ∧ AtF w' w'.heap.size A (udec s.bytes room d1 m1 L1).out ∧ (∀ b o s, A = some ⟨b, o, s⟩ → wr.heap.size ≤ b) := by
  obtain ⟨S, T, h1, h2, h3, h4, h5, h6, h7⟩ := h
  obtain ⟨g1, g2, g3, g4⟩ := hs
  refine (udec_f s.ad s.bytes s.bytes.length s.cap room wr hR S p t m1 L1 d1 h1 (g1.up h7) g2 rfl g3 g4 hn (fun hne a ha hx => ?_) hr).mono ?_
  · obtain ⟨b, o, e, hb, _⟩ := g1 hne
    rw [ha] at e
    injection e with e
    have := h3 _ hx
    rw [e] at this
    simp only [] at this
    omega
  · rintro e w1 ⟨S', A, c, rfl, hU, hS', hK, hat, _, _, hnew⟩
    refine ⟨A, c, rfl, ⟨S', T, hU, h2.keep hK (fun x hx hs => h5 x hs hx), fun x hx => ?_, h4, fun x hx ht => ?_, fun x hx => h2.low x hx, h7.trans (hK.below h3 h7.size)⟩, hat, fun b o s e => (hnew b o s e).1⟩
    · rcases hS' x hx with h | h
      · exact h3 x h
      · exact Nat.le_trans h7.size h
    · rcases hS' x hx with h | h
      · exact h5 x h ht
      · have := h2.low x ht
        omega
theorem TwoU.decB (h : TwoU w p t r q N m1 m2 L1 L2 d1 d2 wr) (s : Sl) (hs : s.ok w w.heap.size) (hn : s.bytes.length ≤ 100000) (room : Int) (A : Option Addr) (l : List Fld) (hA : AtF wr wr.heap.size A l) (hAN : ∀ b o s, A = some ⟨b, o, s⟩ → N ≤ b) :
    Calls Tryd.prog 12 #[.pointer (some ⟨r, 0, none⟩), .slice s.ad s.bytes.length s.cap, .int .i64 room] wr fun e w' => ∃ A2 c2, e = .returned (.tuple #[.slice A2 (udec s.bytes room d2 m2 L2).out.length c2, .int .i64 (((udec s.bytes room d2 m2 L2).err : Nat) : Int)]) ∧ TwoU w p t r q w'.heap.size m1 (udec s.bytes room d2 m2 L2).most L1 (udec s.bytes room d2 m2 L2).tab d1 (udec s.bytes room d2 m2 L2).dead w' ∧ AtF w' w'.heap.size A2 (udec s.bytes room d2 m2 L2).out ∧ AtF w' w'.heap.size A l := by
  obtain ⟨S, T, h1, h2, h3, h4, h5, h6, h7⟩ := h
  obtain ⟨g1, g2, g3, g4⟩ := hs
  refine (rudec_any s.ad s.bytes s.bytes.length s.cap room wr T r q m2 L2 d2 h2 (g1.up h7) g2 rfl g4 hn (fun hne a ha hx => ?_)).mono ?_
  · obtain ⟨b, o, e, hb, _⟩ := g1 hne
    rw [ha] at e
    injection e with e
    have := h4 _ hx
    rw [e] at this
    simp only [] at this
    omega
  · rintro e w1 ⟨T', A2, c2, rfl, hU, hT', hK, hat, _, _, hnew⟩
    refine ⟨A2, c2, rfl, ⟨S, T', h1.keep hK h5, hU, h3, fun x hx => ?_, fun x hx ht => ?_, fun x hx => hU.low x hx, h7.trans (hK.below h4 h7.size)⟩, hat, hA.keeps hK (fun b o s e ht => by have := h6 b ht; have := hAN b o s e; omega)⟩
    · rcases hT' x hx with h | h
      · exact h4 x h
      · exact Nat.le_trans h7.size h
    · rcases hT' x ht with h | h
      · exact h5 x hx h
      · have := h1.low x hx
        omega
end
/-- How many bytes the blocks have, each counted to 20001. -/
def sumL : List Sl → Nat
  | [] => 0
  | s :: r => min s.bytes.length 20001 + sumL r
theorem sumL_app (a b : List Sl) : sumL (a ++ b) = sumL a + sumL b := by
  induction a with
  | nil => simp [sumL]
  | cons x r ih => rw [List.cons_append, sumL, sumL, ih]; omega
theorem sumL_next (l : List Sl) (k : Nat) (h : k < l.length) : sumL (l.take (k + 1)) = sumL (l.take k) + min l[k].bytes.length 20001 := by
  rw [List.take_succ_eq_append_getElem h, sumL_app]
  simp [sumL]
theorem sumL_le : ∀ l : List Sl, sumL l ≤ 20001 * l.length
  | [] => by simp [sumL]
  | s :: r => by
    have := sumL_le r
    rw [sumL, List.length_cons]
    omega
theorem sumL_mem {l : List Sl} {s : Sl} (h : s ∈ l) : min s.bytes.length 20001 ≤ sumL l := by
  induction l with
  | nil => simp at h
  | cons x r ih =>
    rw [sumL]
    rcases List.mem_cons.1 h with rfl | h
    · omega
    · have := ih h
      omega
end Go.Proofs.YtlnppbnbjeakhaaDoor
