/- A parser of the program and the document's own, side by side. -/
import Derived.Test.YtegcloapadippaaFFew
namespace Go.Proofs.Ytegcloapadippaa
open Go.RowKit Fr

theorem At.keptY {wr w' : World} {Y : Nat → Prop} {A : Option Addr} {l : List Nat} (h : At .u8 wr wr.heap.size A l) (hY : ∀ b o, l ≠ [] → A = some ⟨b, o, none⟩ → Y b) (hK : Keeps (fun x => ¬ Y x) wr w') : At .u8 w' w'.heap.size A l := fun hne => by
  obtain ⟨b, o, e, hB, hc⟩ := h hne
  exact ⟨b, o, e, Nat.lt_of_lt_of_le hB hK.size, fun i hi => (hK.cell (p := ⟨b, o + i, none⟩) hB (fun h => h (hY b o hne e))).trans (hc i hi)⟩
/-- Since w the program's parser was made at pa and the document's at pb, out of new blocks; Y: blocks that are neither's. -/
def FF (w : World) (pa pb : Nat) (room : Int) (La Lb : List Nat) (Y : Nat → Prop) (wr : World) : Prop :=
  ∃ Sa Sb, PD wr Sa pa room La ∧ RP wr Sb pb room Lb ∧ (∀ x, Sa x → w.heap.size ≤ x) ∧ (∀ x, Sb x → w.heap.size ≤ x) ∧ (∀ x, Sa x → ¬ Sb x) ∧ (∀ x, Y x → x < wr.heap.size ∧ ¬ Sa x ∧ ¬ Sb x) ∧ Below w.heap.size w wr
section
variable {w wr w' : World} {pa pb : Nat} {room : Int} {La Lb : List Nat} {Y Y' : Nat → Prop}
theorem FF.below (h : FF w pa pb room La Lb Y wr) : Below w.heap.size w wr := by
  obtain ⟨_, _, _, _, _, _, _, _, h⟩ := h
  exact h
theorem FF.quiet (h : FF w pa pb room La Lb Y wr) (hb : Below wr.heap.size wr w') : FF w pa pb room La Lb Y w' := by
  obtain ⟨Sa, Sb, h1, h2, h3, h4, h5, h6, h7⟩ := h
  exact ⟨Sa, Sb, h1.quiet hb, h2.quiet hb, h3, h4, h5, fun x hx => ⟨Nat.lt_of_lt_of_le (h6 x hx).1 hb.size, (h6 x hx).2⟩, h7.trans (hb.mono h7.size)⟩
theorem FF.less (h : FF w pa pb room La Lb Y wr) (hY : ∀ x, Y' x → Y x) : FF w pa pb room La Lb Y' wr := by
  obtain ⟨Sa, Sb, h1, h2, h3, h4, h5, h6, h7⟩ := h
  exact ⟨Sa, Sb, h1, h2, h3, h4, h5, fun x hx => h6 x (hY x hx), h7⟩
theorem FF.more (h : FF w pa pb room La Lb Y wr) (hb : Below wr.heap.size wr w') : FF w pa pb room La Lb (fun x => Y x ∨ (wr.heap.size ≤ x ∧ x < w'.heap.size)) w' := by
  obtain ⟨Sa, Sb, h1, h2, h3, h4, h5, h6, h7⟩ := h
  refine ⟨Sa, Sb, h1.quiet hb, h2.quiet hb, h3, h4, h5, fun x hx => ?_, h7.trans (hb.mono h7.size)⟩
  rcases hx with hx | ⟨h8, h9⟩
  · exact ⟨Nat.lt_of_lt_of_le (h6 x hx).1 hb.size, (h6 x hx).2⟩
  · exact ⟨h9, fun hs => by have := h1.low x hs; omega, fun hs => by have := h2.low x hs; omega⟩
theorem FF.cells (h : FF w pa pb room La Lb Y wr) : ∃ A c, wr.cell? ⟨pb, 1, none⟩ = some (.slice A Lb.length c) ∧ wr.frozen? ⟨pb, 1, none⟩ = false := by
  obtain ⟨Sa, Sb, h1, ⟨v, hh, ho, _⟩, _⟩ := h
  obtain ⟨A, c, rfl⟩ := own_shape ho
  exact ⟨A, c, cell_of_row _ pb 1 _ 38 _ hh, frozen_of_row wr pb 1 _ 38 hh⟩
/-- Behind a call that turns the program's parser alone. -/
theorem FF.stepA {S' Sa Sb : Nat → Prop} {La2 : List Nat} (h2 : RP wr Sb pb room Lb) (h3 : ∀ x, Sa x → w.heap.size ≤ x) (h4 : ∀ x, Sb x → w.heap.size ≤ x) (h5 : ∀ x, Sa x → ¬ Sb x) (h6 : ∀ x, Y x → x < wr.heap.size ∧ ¬ Sa x ∧ ¬ Sb x) (h7 : Below w.heap.size w wr)
    (hU : PD w' S' pa room La2) (hS' : ∀ x, S' x → Sa x ∨ wr.heap.size ≤ x) (hK : Keeps Sa wr w') (A2 : Option Addr) (hnew : ∀ b o s, A2 = some ⟨b, o, s⟩ → wr.heap.size ≤ b ∧ ¬ S' b) : FF w pa pb room La2 Lb (fun x => Y x ∨ (x < w'.heap.size ∧ ∃ o s, A2 = some ⟨x, o, s⟩)) w' ∧ Keeps (fun x => ¬ Y x) wr w' := by
  refine ⟨⟨S', Sb, hU, h2.keep hK (fun x hx hs => h5 x hs hx), fun x hx => ?_, h4, fun x hx hd => ?_, fun x hx => ?_, h7.trans (hK.below h3 h7.size)⟩, hK.mono (fun x _ hx hy => (h6 x hy).2.1 hx)⟩
  · rcases hS' x hx with h | h
    · exact h3 x h
    · exact Nat.le_trans h7.size h
  · rcases hS' x hx with h | h
    · exact h5 x h hd
    · have := h2.low x hd
      omega
  · rcases hx with hx | ⟨hlt, o, s, rfl⟩
    · refine ⟨Nat.lt_of_lt_of_le (h6 x hx).1 hK.size, fun hs => ?_, (h6 x hx).2.2⟩
      rcases hS' x hs with h | h
      · exact (h6 x hx).2.1 h
      · have := (h6 x hx).1
        omega
    · refine ⟨hlt, (hnew x o s rfl).2, fun hd => ?_⟩
      have := (hnew x o s rfl).1
      have := h2.low x hd
      omega
theorem FF.stepB {S' Sa Sb : Nat → Prop} {Lb2 : List Nat} (h1 : PD wr Sa pa room La) (h3 : ∀ x, Sa x → w.heap.size ≤ x) (h4 : ∀ x, Sb x → w.heap.size ≤ x) (h5 : ∀ x, Sa x → ¬ Sb x) (h6 : ∀ x, Y x → x < wr.heap.size ∧ ¬ Sa x ∧ ¬ Sb x) (h7 : Below w.heap.size w wr)
    (hU : RP w' S' pb room Lb2) (hS' : ∀ x, S' x → Sb x ∨ wr.heap.size ≤ x) (hK : Keeps Sb wr w') (A2 : Option Addr) (hnew : ∀ b o s, A2 = some ⟨b, o, s⟩ → wr.heap.size ≤ b ∧ ¬ S' b) : FF w pa pb room La Lb2 (fun x => Y x ∨ (x < w'.heap.size ∧ ∃ o s, A2 = some ⟨x, o, s⟩)) w' ∧ Keeps (fun x => ¬ Y x) wr w' := by
  refine ⟨⟨Sa, S', h1.keep hK (fun x hx hs => h5 x hx hs), hU, h3, fun x hx => ?_, fun x ha hx => ?_, fun x hx => ?_, h7.trans (hK.below h4 h7.size)⟩, hK.mono (fun x _ hx hy => (h6 x hy).2.2 hx)⟩
  · rcases hS' x hx with h | h
    · exact h4 x h
    · exact Nat.le_trans h7.size h
  · rcases hS' x hx with h | h
    · exact h5 x ha h
    · have := h1.low x ha
      omega
  · rcases hx with hx | ⟨hlt, o, s, rfl⟩
    · refine ⟨Nat.lt_of_lt_of_le (h6 x hx).1 hK.size, (h6 x hx).2.1, fun hs => ?_⟩
      rcases hS' x hs with h | h
      · exact (h6 x hx).2.2 h
      · have := (h6 x hx).1
        omega
    · refine ⟨hlt, fun hs => ?_, (hnew x o s rfl).2⟩
      have := (hnew x o s rfl).1
      have := h1.low x hs
      omega
theorem FF.feedA (h : FF w pa pb room La Lb Y wr) (A : Option Addr) (l : List Nat) (n c : Nat) (hA : At .u8 wr wr.heap.size A l) (hb : ∀ x ∈ l, x < 256) (hl : l.length = n) (hA0 : A = none → c = 0) (hnc : n ≤ c) (hAY : l ≠ [] → ∀ a, A = some a → a.block < w.heap.size) (hL : ∀ x ∈ La, x < 256) (hn : La.length + n ≤ 90000) :
    Calls Try.prog 16 #[.pointer (some ⟨pa, 0, none⟩), .slice A n c] wr fun e w' => e = .returned (.tuple #[]) ∧ FF w pa pb room (La ++ l) Lb Y w' := by
  obtain ⟨Sa, Sb, h1, h2, h3, h4, h5, h6, h7⟩ := h
  refine (ffeed_f A l n c wr Sa pa room La h1 hA hb hl hA0 hnc (fun hne a ha hs => by have := h3 _ hs; have := hAY hne a ha; omega) hL hn).mono ?_
  rintro e w1 ⟨rfl, S', hU, hS', hK⟩
  exact ⟨rfl, (FF.stepA h2 h3 h4 h5 h6 h7 hU hS' hK none (fun b o s e => by cases e)).1.less (fun x hx => .inl hx)⟩
theorem FF.nextA (h : FF w pa pb room La Lb Y wr) (hL : ∀ x ∈ La, x < 256) (hn : La.length ≤ 90000) {f : Frm} {err : Nat} {rest : List Nat} (hnx : Fr.next room La = (f, err, rest)) :
    Calls Try.prog 17 #[.pointer (some ⟨pa, 0, none⟩)] wr fun e w' => ∃ A c, e = .returned (.tuple #[frm f A c, .int .i64 (err : Int)]) ∧ FF w pa pb room rest Lb (fun x => Y x ∨ (x < w'.heap.size ∧ ∃ o s, A = some ⟨x, o, s⟩)) w' ∧ At .u8 w' w'.heap.size A f.body := by
  obtain ⟨Sa, Sb, h1, h2, h3, h4, h5, h6, h7⟩ := h
  have hN := fnext_f wr Sa pa room La h1 hL hn
  rw [hnx] at hN
  refine hN.mono ?_
  rintro e w1 ⟨S', ⟨A, c, rfl, hat, _, _, hnew⟩, hU, hS', hK⟩
  exact ⟨A, c, rfl, (FF.stepA h2 h3 h4 h5 h6 h7 hU hS' hK A hnew).1, hat⟩
theorem FF.nextB (h : FF w pa pb room La Lb Y wr) (hL : ∀ x ∈ Lb, x < 256) (hn : Lb.length ≤ 90000) {f : Frm} {err : Nat} {rest : List Nat} (hnx : Fr.next room Lb = (f, err, rest)) :
    Calls Try.prog 18 #[.pointer (some ⟨pb, 0, none⟩)] wr fun e w' => ∃ A c, e = .returned (.tuple #[frm f A c, .int .i64 (err : Int)]) ∧ FF w pa pb room La rest (fun x => Y x ∨ (x < w'.heap.size ∧ ∃ o s, A = some ⟨x, o, s⟩)) w' ∧ At .u8 w' w'.heap.size A f.body ∧ Keeps (fun x => ¬ Y x) wr w' := by
  obtain ⟨Sa, Sb, h1, h2, h3, h4, h5, h6, h7⟩ := h
  have hN := rfnext_any wr Sb pb room Lb h2 hL hn
  rw [hnx] at hN
  refine hN.mono ?_
  rintro e w1 ⟨S', ⟨A, c, rfl, hat, _, _, hnew⟩, hU, hS', hK⟩
  obtain ⟨k1, k2⟩ := FF.stepB h1 h3 h4 h5 h6 h7 hU hS' hK A hnew
  exact ⟨A, c, rfl, k1, hat, k2⟩
theorem FF.leftA (h : FF w pa pb room La Lb Y wr) (hn : La.length ≤ 90000) : Calls Try.prog 19 #[.pointer (some ⟨pa, 0, none⟩)] wr (NumPost wr La.length) := by
  obtain ⟨Sa, Sb, h1, _⟩ := h
  exact fleft_f wr Sa pa room La h1 hn
/-- What the append onto the document's parser's bytes needs, and what is behind its being laid there. -/
theorem FF.appB (h : FF w pa pb room La Lb Y wr) : ∃ A c, wr.cell? ⟨pb, 1, none⟩ = some (.slice A Lb.length c) ∧ wr.ownsRow 0 5 1 (.slice A Lb.length c) Lb.length (cn .u8 Lb) ∧
    ∀ (v' : Value) (w1 : World) (m : List Nat), w1.ownsRow 0 5 1 v' (Lb.length + m.length) (cn .u8 (Lb ++ m)) → wr.grownBy w1 (Value.ownBlock (.slice A Lb.length c)) → (∀ j, v'.ownBlock = some j → Value.ownBlock (.slice A Lb.length c) = some j ∨ wr.heap.size ≤ j) →
      w1.cell? ⟨pb, 1, none⟩ = some (.slice A Lb.length c) ∧ w1.frozen? ⟨pb, 1, none⟩ = false ∧ FF w pa pb room La (Lb ++ m) Y (w1.setCell ⟨pb, 1, none⟩ v') := by
  obtain ⟨Sa, Sb, h1, ⟨v, hh, ho, hn, hS⟩, h3, h4, h5, h6, h7⟩ := h
  obtain ⟨A, c, rfl⟩ := own_shape ho
  refine ⟨A, c, cell_of_row _ pb 1 _ 38 _ hh, ho, fun v' w1 m hown hg hwh => ?_⟩
  have hp := lt_of_heapF hh
  have hk1 : Keeps (fun x => (Value.slice A Lb.length c).ownBlock = some x) wr w1 := ⟨hg.os, hg.tape, hg.output, hg.size, fun y hy hn => hg.block y hy (fun e => hn e.symm)⟩
  have hh1 : w1.heap[pb]? = some (.cells #[.int .i64 room, .slice A Lb.length c] 38 (0, 0)) := (hk1.block pb hp (fun e => hn pb e rfl)).trans hh
  have hk2 : Keeps (fun x => x = pb) w1 (w1.setCell ⟨pb, 1, none⟩ v') := (Keeps.refl (fun x => x = pb) w1).setCell (S := fun x => x = pb) (p := ⟨pb, 1, none⟩) rfl _
  have hh2 : (w1.setCell ⟨pb, 1, none⟩ v').heap[pb]? = some (.cells #[.int .i64 room, v'] 38 (0, 0)) := by
    have := heap_setCell_same w1 pb 1 _ 38 v' hh1
    simpa using this
  have hvp : ∀ k, v'.ownBlock = some k → k ≠ pb := fun k hk e => by
    rcases hwh k hk with h | h
    · exact hn k h e
    · omega
  have hK : Keeps Sb wr (w1.setCell ⟨pb, 1, none⟩ v') := (hk1.mono (fun x _ hx => (hS x).2 (.inr hx))).trans hk2 (fun x hx _ => by subst hx; exact (hS _).2 (.inl rfl))
  refine ⟨cell_of_row _ pb 1 _ 38 _ hh1, frozen_of_row w1 pb 1 _ 38 hh1, ?_⟩
  refine (FF.stepB (S' := fun x => x = pb ∨ v'.ownBlock = some x) h1 h3 h4 h5 h6 h7 ⟨v', hh2, ?_, hvp, fun x => Iff.rfl⟩ (fun x hx => ?_) hK none (fun b o s e => by cases e)).1.less (fun x hx => .inl hx)
  · rw [List.length_append]
    exact row_keeps hown hk2 (fun k hk e => hvp k hk e)
  · rcases hx with hx | hx
    · exact .inl ((hS x).2 (.inl hx))
    · rcases hwh x hx with h | h
      · exact .inl ((hS x).2 (.inr h))
      · exact .inr h
end
end Go.Proofs.Ytegcloapadippaa
