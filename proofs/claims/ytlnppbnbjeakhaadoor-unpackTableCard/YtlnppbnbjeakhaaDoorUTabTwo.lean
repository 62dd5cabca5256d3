/- Two of the program's decoders side by side, their blocks apart. -/
import Derived.Test.YtlnppbnbjeakhaaDoorUHelp
import Derived.Test.YtlnppbnbjeakhaaDoorUTwo
import Derived.Test.YtlnppbnbjeakhaaDoorUMath3
namespace Go.Proofs.YtlnppbnbjeakhaaDoor
open Go.RowKit

/-- Since w both decoders were made out of new blocks; the second's lie below block N. -/
def TwoP (w : World) (p t r q N : Nat) (m1 m2 : Nat) (L1 L2 : List Fld) (d1 d2 : Bool) (wr : World) : Prop :=
  ∃ S T, UD wr S p t m1 L1 d1 ∧ UD wr T r q m2 L2 d2 ∧ (∀ x, S x → w.heap.size ≤ x) ∧ (∀ x, T x → w.heap.size ≤ x) ∧ (∀ x, S x → ¬ T x) ∧ (∀ x, T x → x < N) ∧ Below w.heap.size w wr
section
variable {w wr w' : World} {p t r q N m1 m2 : Nat} {L1 L2 : List Fld} {d1 d2 : Bool}
theorem TwoP.below (h : TwoP w p t r q N m1 m2 L1 L2 d1 d2 wr) : Below w.heap.size w wr := by
  obtain ⟨_, _, _, _, _, _, _, _, h⟩ := h
  exact h
theorem TwoP.one (h : TwoP w p t r q N m1 m2 L1 L2 d1 d2 wr) : ∃ S, UD wr S p t m1 L1 d1 := by
  obtain ⟨S, _, h, _⟩ := h
  exact ⟨S, h⟩
theorem TwoP.two (h : TwoP w p t r q N m1 m2 L1 L2 d1 d2 wr) : ∃ T, UD wr T r q m2 L2 d2 := by
  obtain ⟨_, T, _, h, _⟩ := h
  exact ⟨T, h⟩
theorem TwoP.quiet (h : TwoP w p t r q N m1 m2 L1 L2 d1 d2 wr) (hb : Below wr.heap.size wr w') : TwoP w p t r q N m1 m2 L1 L2 d1 d2 w' := by
  obtain ⟨S, T, h1, h2, h3, h4, h5, h6, h7⟩ := h
  exact ⟨S, T, h1.quiet hb, h2.quiet hb, h3, h4, h5, h6, h7.trans (hb.mono h7.size)⟩
theorem TwoP.decA (h : TwoP w p t r q N m1 m2 L1 L2 d1 d2 wr) (hR : Rdy wr) (s : Sl) (hs : s.ok w w.heap.size) (hn : s.bytes.length ≤ 100000) (room : Int) (hr : Rng room) :
    Calls Tryd.prog 11 #[.pointer (some ⟨p, 0, none⟩), .slice s.ad s.bytes.length s.cap, .int .i64 room] wr fun e w' => ∃ A c, e = .returned (.tuple #[.slice A (udec s.bytes room d1 m1 L1).out.length c, .int .i64 (((udec s.bytes room d1 m1 L1).err : Nat) : Int)]) ∧ TwoP w p t r q wr.heap.size (udec s.bytes room d1 m1 L1).most m2 (udec s.bytes room d1 m1 L1).tab L2 (udec s.bytes room d1 m1 L1).dead d2 w' ∧ AtF w' w'.heap.size A (udec s.bytes room d1 m1 L1).out ∧ (∀ b o s, A = some ⟨b, o, s⟩ → wr.heap.size ≤ b) := by
  obtain ⟨S, T, h1, h2, h3, h4, h5, h6, h7⟩ := h
  obtain ⟨g1, g2, g3, g4⟩ := hs
  refine (udec_f s.ad s.bytes s.bytes.length s.cap room wr hR S p t m1 L1 d1 h1 (g1.up h7) g2 rfl g3 g4 hn (fun hne a ha hx => ?_) hr).mono ?_
  · obtain ⟨b, o, e, hb, _⟩ := g1 hne
    rw [ha] at e
    injection e with e
    have := h3 _ hx
    rw [e] at this
    simp only [] at this
    omega
  · rintro e w1 ⟨S', A, c, rfl, hU, hS', hK, hat, _, _, hnew⟩
    refine ⟨A, c, rfl, ⟨S', T, hU, h2.keep hK (fun x hx hs => h5 x hs hx), fun x hx => ?_, h4, fun x hx ht => ?_, fun x hx => h2.low x hx, h7.trans (hK.below h3 h7.size)⟩, hat, fun b o s e => (hnew b o s e).1⟩
    · rcases hS' x hx with h | h
      · exact h3 x h
      · exact Nat.le_trans h7.size h
    · rcases hS' x hx with h | h
      · exact h5 x h ht
      · have := h2.low x ht
        omega
theorem TwoP.decB (h : TwoP w p t r q N m1 m2 L1 L2 d1 d2 wr) (hR : Rdy wr) (s : Sl) (hs : s.ok w w.heap.size) (hn : s.bytes.length ≤ 100000) (room : Int) (hr : Rng room) (A : Option Addr) (l : List Fld) (hA : AtF wr wr.heap.size A l) (hAN : ∀ b o s, A = some ⟨b, o, s⟩ → N ≤ b) :
    Calls Tryd.prog 11 #[.pointer (some ⟨r, 0, none⟩), .slice s.ad s.bytes.length s.cap, .int .i64 room] wr fun e w' => ∃ A2 c2, e = .returned (.tuple #[.slice A2 (udec s.bytes room d2 m2 L2).out.length c2, .int .i64 (((udec s.bytes room d2 m2 L2).err : Nat) : Int)]) ∧ TwoP w p t r q w'.heap.size m1 (udec s.bytes room d2 m2 L2).most L1 (udec s.bytes room d2 m2 L2).tab d1 (udec s.bytes room d2 m2 L2).dead w' ∧ AtF w' w'.heap.size A2 (udec s.bytes room d2 m2 L2).out ∧ AtF w' w'.heap.size A l := by
  obtain ⟨S, T, h1, h2, h3, h4, h5, h6, h7⟩ := h
  obtain ⟨g1, g2, g3, g4⟩ := hs
  refine (udec_f s.ad s.bytes s.bytes.length s.cap room wr hR T r q m2 L2 d2 h2 (g1.up h7) g2 rfl g3 g4 hn (fun hne a ha hx => ?_) hr).mono ?_
  · obtain ⟨b, o, e, hb, _⟩ := g1 hne
    rw [ha] at e
    injection e with e
    have := h4 _ hx
    rw [e] at this
    simp only [] at this
    omega
  · rintro e w1 ⟨T', A2, c2, rfl, hU, hT', hK, hat, _, _, hnew⟩
    refine ⟨A2, c2, rfl, ⟨S, T', h1.keep hK h5, hU, h3, fun x hx => ?_, fun x hx ht => ?_, fun x hx => hU.low x hx, h7.trans (hK.below h4 h7.size)⟩, hat, hA.keeps hK (fun b o s e ht => by have := h6 b ht; have := hAN b o s e; omega)⟩
    · rcases hT' x hx with h | h
      · exact h4 x h
      · exact Nat.le_trans h7.size h
    · rcases hT' x ht with h | h
      · exact h5 x hx h
      · have := h1.low x hx
        omega
/-- The first one's table, for reading: within its limit, whatever has become of it. -/
theorem TwoP.tabA (h : TwoP w p t r q N m1 m2 L1 L2 d1 d2 wr) : ∃ S m L, DT wr S t m L ∧ tot L ≤ m ∧ m ≤ 4096 ∧ (d1 = false → m = m1 ∧ L = L1) := by
  obtain ⟨S, h⟩ := h.one
  obtain ⟨S2, m, L, h2, he⟩ := h.dt
  exact ⟨S2, m, L, h2, h2.fits.1, h2.fits.2, he⟩
theorem TwoP.tabB (h : TwoP w p t r q N m1 m2 L1 L2 d1 d2 wr) : ∃ S m L, DT wr S q m L ∧ tot L ≤ m ∧ m ≤ 4096 ∧ (d2 = false → m = m2 ∧ L = L2) := by
  obtain ⟨S, h⟩ := h.two
  obtain ⟨S2, m, L, h2, he⟩ := h.dt
  exact ⟨S2, m, L, h2, h2.fits.1, h2.fits.2, he⟩
end
end Go.Proofs.YtlnppbnbjeakhaaDoor
