/- One parser of the program in use: what each call needs and leaves, in one word. -/
import Derived.Test.YtegcloapadippaaFFew
namespace Go.Proofs.Ytegcloapadippaa
open Go.RowKit Fr

/-- Since w a parser was made at p, out of new blocks; X: blocks that are not its own. -/
def HasP (w : World) (X : Nat → Prop) (p : Nat) (room : Int) (L : List Nat) (wr : World) : Prop := ∃ S, PD wr S p room L ∧ (∀ x, S x → w.heap.size ≤ x) ∧ (∀ x, X x → x < wr.heap.size ∧ ¬ S x) ∧ Below w.heap.size w wr
section
variable {w wr w' : World} {X : Nat → Prop} {p : Nat} {room : Int} {L : List Nat}
theorem HasP.below (h : HasP w X p room L wr) : Below w.heap.size w wr := by
  obtain ⟨_, _, _, _, h⟩ := h
  exact h
theorem HasP.quiet (h : HasP w X p room L wr) (hb : Below wr.heap.size wr w') : HasP w X p room L w' := by
  obtain ⟨S, h1, h2, h3, h4⟩ := h
  exact ⟨S, h1.quiet hb, h2, fun x hx => ⟨Nat.lt_of_lt_of_le (h3 x hx).1 hb.size, (h3 x hx).2⟩, h4.trans (hb.mono h4.size)⟩
theorem HasP.more (h : HasP w X p room L wr) (hb : Below wr.heap.size wr w') : HasP w (fun x => X x ∨ (wr.heap.size ≤ x ∧ x < w'.heap.size)) p room L w' := by
  obtain ⟨S, h1, h2, h3, h4⟩ := h
  refine ⟨S, h1.quiet hb, h2, fun x hx => ?_, h4.trans (hb.mono h4.size)⟩
  rcases hx with hx | ⟨h5, h6⟩
  · exact ⟨Nat.lt_of_lt_of_le (h3 x hx).1 hb.size, (h3 x hx).2⟩
  · exact ⟨h6, fun hs => by have := h1.low x hs; omega⟩
theorem HasP.less {X' : Nat → Prop} (h : HasP w X p room L wr) (hX : ∀ x, X' x → X x) : HasP w X' p room L wr := by
  obtain ⟨S, h1, h2, h3, h4⟩ := h
  exact ⟨S, h1, h2, fun x hx => h3 x (hX x hx), h4⟩
/-- A block that is not its own is written. -/
theorem HasP.touch {g : Nat} (h : HasP w X p room L wr) (hk : Keeps (fun x => x = g) wr w') (hg : X g) (hgw : w.heap.size ≤ g) : HasP w X p room L w' := by
  obtain ⟨S, h1, h2, h3, h4⟩ := h
  exact ⟨S, h1.keep hk (fun x hx e => (h3 g hg).2 (e ▸ hx)), h2, fun x hx => ⟨Nat.lt_of_lt_of_le (h3 x hx).1 hk.size, (h3 x hx).2⟩, h4.trans (hk.below (fun k e => e ▸ hgw) h4.size)⟩
theorem HasP.lt (h : HasP w X p room L wr) {x : Nat} (hx : X x) : x < wr.heap.size := by
  obtain ⟨S, h1, h2, h3, h4⟩ := h
  exact (h3 x hx).1
theorem HasP.new (hw : Below w.heap.size w wr) (hr : -9223372036854775808 ≤ room ∧ room ≤ 9223372036854775807) : Calls Try.prog 15 #[.int .i64 room] wr fun e w' => ∃ p, e = .returned (.pointer (some ⟨p, 0, none⟩)) ∧ HasP w (fun x => x < wr.heap.size) p room [] w' ∧ Below wr.heap.size wr w' := by
  refine (fnew_f room wr hr).mono ?_
  rintro e w1 ⟨p, S, rfl, hU, hS, hb⟩
  exact ⟨p, rfl, ⟨S, hU, fun x hx => Nat.le_trans hw.size (hS x hx), fun x hx => ⟨Nat.lt_of_lt_of_le hx hb.size, fun hs => by have := hS x hs; omega⟩, hw.trans (hb.mono hw.size)⟩, hb⟩
theorem HasP.feed (h : HasP w X p room L wr) (A : Option Addr) (l : List Nat) (n c : Nat) (hA : At .u8 wr wr.heap.size A l) (hb : ∀ x ∈ l, x < 256) (hl : l.length = n) (hA0 : A = none → c = 0) (hnc : n ≤ c) (hAX : l ≠ [] → ∀ a, A = some a → X a.block) (hL : ∀ x ∈ L, x < 256) (hn : L.length + n ≤ 90000) :
    Calls Try.prog 16 #[.pointer (some ⟨p, 0, none⟩), .slice A n c] wr fun e w' => e = .returned (.tuple #[]) ∧ HasP w X p room (L ++ l) w' ∧ wr.heap.size ≤ w'.heap.size ∧ (∀ x, X x → w'.heap[x]? = wr.heap[x]?) := by
  obtain ⟨S, h1, h2, h3, h4⟩ := h
  refine (ffeed_f A l n c wr S p room L h1 hA hb hl hA0 hnc (fun hne a ha => (h3 _ (hAX hne a ha)).2) hL hn).mono ?_
  rintro e w1 ⟨rfl, S', hU, hS', hK⟩
  refine ⟨rfl, ⟨S', hU, fun x hx => ?_, fun x hx => ⟨Nat.lt_of_lt_of_le (h3 x hx).1 hK.size, fun hs => ?_⟩, h4.trans (hK.below h2 h4.size)⟩, hK.size, fun x hx => hK.block x (h3 x hx).1 (h3 x hx).2⟩
  · rcases hS' x hx with h | h
    · exact h2 x h
    · exact Nat.le_trans h4.size h
  · rcases hS' x hs with h | h
    · exact (h3 x hx).2 h
    · have := (h3 x hx).1
      omega
/-- What Next hands back beside the parser. -/
structure OutP (wr : World) (X : Nat → Prop) (A : Option Addr) (c : Nat) (out : List Nat) (w' : World) : Prop where
  at' : At .u8 w' w'.heap.size A out
  nil : A = none → c = 0
  cap : out.length ≤ c
  size : wr.heap.size ≤ w'.heap.size
  kept : ∀ x, X x → w'.heap[x]? = wr.heap[x]?
  fresh : ∀ b o s, A = some ⟨b, o, s⟩ → wr.heap.size ≤ b
theorem HasP.next (h : HasP w X p room L wr) (hL : ∀ x ∈ L, x < 256) (hn : L.length ≤ 90000) {f : Frm} {err : Nat} {rest : List Nat} (hnx : Fr.next room L = (f, err, rest)) :
    Calls Try.prog 17 #[.pointer (some ⟨p, 0, none⟩)] wr fun e w' => ∃ A c, e = .returned (.tuple #[frm f A c, .int .i64 (err : Int)]) ∧ HasP w (fun x => X x ∨ (x < w'.heap.size ∧ ∃ o s, A = some ⟨x, o, s⟩)) p room rest w' ∧ OutP wr X A c f.body w' := by
  obtain ⟨S, h1, h2, h3, h4⟩ := h
  have hN := fnext_f wr S p room L h1 hL hn
  rw [hnx] at hN
  refine hN.mono ?_
  rintro e w1 ⟨S', ⟨A, c, rfl, hat, hA0, hlc, hnew⟩, hU, hS', hK⟩
  simp only [] at hat hlc hU
  refine ⟨A, c, rfl, ⟨S', hU, fun x hx => ?_, fun x hx => ?_, h4.trans (hK.below h2 h4.size)⟩, ⟨hat, hA0, hlc, hK.size, fun x hx => hK.block x (h3 x hx).1 (h3 x hx).2, fun b o s e => (hnew b o s e).1⟩⟩
  · rcases hS' x hx with h | h
    · exact h2 x h
    · exact Nat.le_trans h4.size h
  · rcases hx with hx | ⟨hlt, o, s, rfl⟩
    · refine ⟨Nat.lt_of_lt_of_le (h3 x hx).1 hK.size, fun hs => ?_⟩
      rcases hS' x hs with h | h
      · exact (h3 x hx).2 h
      · have := (h3 x hx).1
        omega
    · exact ⟨hlt, (hnew x o s rfl).2⟩
theorem HasP.left (h : HasP w X p room L wr) (hn : L.length ≤ 90000) : Calls Try.prog 19 #[.pointer (some ⟨p, 0, none⟩)] wr (NumPost wr L.length) := by
  obtain ⟨S, h1, _⟩ := h
  exact fleft_f wr S p room L h1 hn
end
end Go.Proofs.Ytegcloapadippaa
