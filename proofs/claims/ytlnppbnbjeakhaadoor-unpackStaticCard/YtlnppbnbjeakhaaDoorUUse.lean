/- One decoder in use: what each call needs and leaves, in one word. -/
import Derived.Test.YtlnppbnbjeakhaaDoorUFace
namespace Go.Proofs.YtlnppbnbjeakhaaDoor
open Go.RowKit

/-- Since w a decoder was made at p, out of new blocks; X: blocks that are not its own. -/
def HasU (w : World) (X : Nat → Prop) (p t m : Nat) (L : List Fld) (dead : Bool) (wr : World) : Prop := ∃ S, UD wr S p t m L dead ∧ (∀ x, S x → w.heap.size ≤ x) ∧ (∀ x, X x → x < wr.heap.size ∧ ¬ S x) ∧ Below w.heap.size w wr
section
variable {w wr w' : World} {X : Nat → Prop} {p t m : Nat} {L : List Fld} {dead : Bool}
theorem HasU.below (h : HasU w X p t m L dead wr) : Below w.heap.size w wr := by
  obtain ⟨_, _, _, _, h⟩ := h
  exact h
theorem HasU.quiet (h : HasU w X p t m L dead wr) (hb : Below wr.heap.size wr w') : HasU w X p t m L dead w' := by
  obtain ⟨S, h1, h2, h3, h4⟩ := h
  exact ⟨S, h1.quiet hb, h2, fun x hx => ⟨Nat.lt_of_lt_of_le (h3 x hx).1 hb.size, (h3 x hx).2⟩, h4.trans (hb.mono h4.size)⟩
/-- New blocks are not its own. -/
theorem HasU.more (h : HasU w X p t m L dead wr) (hb : Below wr.heap.size wr w') : HasU w (fun x => X x ∨ (wr.heap.size ≤ x ∧ x < w'.heap.size)) p t m L dead w' := by
  obtain ⟨S, h1, h2, h3, h4⟩ := h
  refine ⟨S, h1.quiet hb, h2, fun x hx => ?_, h4.trans (hb.mono h4.size)⟩
  rcases hx with hx | ⟨h5, h6⟩
  · exact ⟨Nat.lt_of_lt_of_le (h3 x hx).1 hb.size, (h3 x hx).2⟩
  · exact ⟨h6, fun hs => by have := h1.low x hs; omega⟩
theorem HasU.less {X' : Nat → Prop} (h : HasU w X p t m L dead wr) (hX : ∀ x, X' x → X x) : HasU w X' p t m L dead wr := by
  obtain ⟨S, h1, h2, h3, h4⟩ := h
  exact ⟨S, h1, h2, fun x hx => h3 x (hX x hx), h4⟩
theorem HasU.new (hR : Rdy wr) (hw : Below w.heap.size w wr) : Calls Tryd.prog 9 #[] wr fun e w' => ∃ p t, e = .returned (.pointer (some ⟨p, 0, none⟩)) ∧ HasU w (fun x => x < wr.heap.size) p t 4096 [] false w' ∧ Below wr.heap.size wr w' := by
  refine (unew_f wr hR).mono ?_
  rintro e w1 ⟨p, t, S, rfl, hU, hS, hb⟩
  exact ⟨p, t, rfl, ⟨S, hU, fun x hx => Nat.le_trans hw.size (hS x hx), fun x hx => ⟨Nat.lt_of_lt_of_le hx hb.size, fun hs => by have := hS x hs; omega⟩, hw.trans (hb.mono hw.size)⟩, hb⟩
/-- What a block hands back beside the decoder. -/
structure Outs (wr : World) (X : Nat → Prop) (A : Option Addr) (c : Nat) (out : List Fld) (w' : World) : Prop where
  at' : AtF w' w'.heap.size A out
  nil : A = none → c = 0
  cap : out.length ≤ c
  size : wr.heap.size ≤ w'.heap.size
  kept : ∀ x, X x → w'.heap[x]? = wr.heap[x]?
theorem HasU.dec (h : HasU w X p t m L dead wr) (hR : Rdy wr) (A : Option Addr) (b : List Nat) (n c : Nat) (room : Int) (hA : At .u8 wr wr.heap.size A b) (hb : ∀ x ∈ b, x < 256) (hl : b.length = n) (hA0 : A = none → c = 0) (hnc : n ≤ c) (hn : n ≤ 100000) (hAX : b ≠ [] → ∀ a, A = some a → X a.block) (hr : Rng room) :
    Calls Tryd.prog 11 #[.pointer (some ⟨p, 0, none⟩), .slice A n c, .int .i64 room] wr fun e w' => ∃ A2 c2, e = .returned (.tuple #[.slice A2 (udec b room dead m L).out.length c2, .int .i64 (((udec b room dead m L).err : Nat) : Int)]) ∧ HasU w (fun x => X x ∨ (x < w'.heap.size ∧ ∃ o s, A2 = some ⟨x, o, s⟩)) p t (udec b room dead m L).most (udec b room dead m L).tab (udec b room dead m L).dead w' ∧ Outs wr X A2 c2 (udec b room dead m L).out w' := by
  obtain ⟨S, h1, h2, h3, h4⟩ := h
  refine (udec_f A b n c room wr hR S p t m L dead h1 hA hb hl hA0 hnc hn (fun hne a ha => (h3 _ (hAX hne a ha)).2) hr).mono ?_
  rintro e w1 ⟨S', A2, c2, rfl, hU, hS', hK, hat, hA2, hlc, hnew⟩
  refine ⟨A2, c2, rfl, ⟨S', hU, fun x hx => ?_, fun x hx => ?_, h4.trans (hK.below h2 h4.size)⟩, ⟨hat, hA2, hlc, hK.size, fun x hx => hK.block x (h3 x hx).1 (h3 x hx).2⟩⟩
  · rcases hS' x hx with h | h
    · exact h2 x h
    · exact Nat.le_trans h4.size h
  · rcases hx with hx | ⟨hlt, o, s, rfl⟩
    · refine ⟨Nat.lt_of_lt_of_le (h3 x hx).1 hK.size, fun hs => ?_⟩
      rcases hS' x hs with h | h
      · exact (h3 x hx).2 h
      · have := (h3 x hx).1
        omega
    · exact ⟨hlt, (hnew x o s rfl).2⟩
theorem HasU.table (h : HasU w X p t m L dead wr) (hR : Rdy wr) : Calls Tryd.prog 16 #[.pointer (some ⟨p, 0, none⟩)] wr fun e w' => e = .returned (.pointer (some ⟨t, 0, none⟩)) ∧ HasU w X p t m L dead w' ∧ Below wr.heap.size wr w' := by
  obtain ⟨S, h1, _⟩ := id h
  refine (utab_f wr hR S p t m L dead h1).mono ?_
  rintro e w1 ⟨rfl, hb⟩
  exact ⟨rfl, h.quiet hb, hb⟩
theorem HasU.isDead (h : HasU w X p t m L dead wr) (hR : Rdy wr) : Calls Tryd.prog 14 #[.pointer (some ⟨p, 0, none⟩)] wr fun e w' => e = .returned (.bool dead) ∧ HasU w X p t m L dead w' ∧ Below wr.heap.size wr w' := by
  obtain ⟨S, h1, _⟩ := id h
  refine (udead_f wr hR S p t m L dead h1).mono ?_
  rintro e w1 ⟨rfl, hb⟩
  exact ⟨rfl, h.quiet hb, hb⟩
theorem HasU.len (h : HasU w X p t m L false wr) (hR : Rdy wr) : Calls Tryd.prog 20 #[.pointer (some ⟨t, 0, none⟩)] wr (NumPost wr L.length) := by
  obtain ⟨S, h1, _⟩ := h
  obtain ⟨S2, m1, L1, hT, he⟩ := h1.dt
  obtain ⟨rfl, rfl⟩ := he rfl
  exact dlen_f wr S2 t m1 L1 hR hT
theorem HasU.most (h : HasU w X p t m L false wr) (hR : Rdy wr) : Calls Tryd.prog 18 #[.pointer (some ⟨t, 0, none⟩)] wr (NumPost wr m) := by
  obtain ⟨S, h1, _⟩ := h
  obtain ⟨S2, m1, L1, hT, he⟩ := h1.dt
  obtain ⟨rfl, rfl⟩ := he rfl
  exact dmost_f wr S2 t m1 L1 hR hT
end
set_option maxRecDepth 100000 in
theorem dec_first : udec [130] 1000 false 4096 [] = ⟨[⟨⟨#[58, 109, 101, 116, 104, 111, 100]⟩, ⟨#[71, 69, 84]⟩, false⟩], 0, false, 4096, []⟩ := by kernel_rfl
set_option maxRecDepth 100000 in
set_option maxHeartbeats 4000000 in
theorem first_any (w : World) (hR : Rdy w) : Calls Tryd.prog 8 #[] w (Yes w) := by
  have HR := Lib.hid fun (w' : World) (hb : Below w.heap.size w w') => hR.below hb
  have HN := Lib.hid (HasU.new (w := w) hR (Below.refl _ _))
  clear hR
  go_enter Tryd.func8, Tryd.ntmps8
  go_wp2_with fail
  with_reducible refine (HN.out).mono ?_
  rintro e w1 ⟨p, t, rfl, hH1, hb1⟩
  have hba : Below w1.heap.size w1 (w1.alloc (.cells #[.int .u8 130] 5)) := (Below.refl _ _).alloc (Nat.le_refl _) _
  have hH2 := hH1.more hba
  have HD := hH2.dec (HR.out _ hH2.below) (some ⟨w1.heap.size, 0, none⟩) [130] 1 1 1000 (At.new w1 [130] 5 (0, 0)) (fun x hx => by simp at hx; omega) rfl (fun h => by cases h) (Nat.le_refl _) (by omega) (fun _ a ha => by injection ha with ha; subst ha; exact .inr ⟨Nat.le_refl _, by simp⟩) (by unfold Rng; omega)
  rw [dec_first] at HD
  replace HD := Lib.hid HD
  clear hba hH1 hH2 HN hb1
  go_wp2_with fail
  with_reducible refine (HD.out).mono ?_
  rintro e w2 ⟨A2, c2, rfl, hH3, ho⟩
  obtain ⟨bk, o, rfl, hbk, hc⟩ := ho.at' (by simp)
  obtain ⟨y0, y1, y2⟩ := hc 0 (by simp)
  simp only [List.getElem_cons_zero, Nat.zero_mul, Nat.add_zero] at y0 y1 y2
  have HDE := Lib.hid (hH3.isDead (HR.out _ hH3.below))
  clear HD ho hc hH3
  simp only [List.length_cons, List.length_nil]
  go_wp2_with fail
  with_reducible refine (HDE.out).mono ?_
  rintro e w3 ⟨rfl, hH4, _⟩
  have hZ := hH4.below
  clear hH4 HDE y0 y1 y2
  go_wp2
  go_ret
  exact ⟨rfl, hZ⟩
end Go.Proofs.YtlnppbnbjeakhaaDoor
