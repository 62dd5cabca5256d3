/- The faces' contracts of the landed decoder; the laws' texts know these names alone. -/
import Derived.Test.YtiandidencnlcaaDoorUObj
import Derived.Test.YtiandidencnlcaaDoorLUEld
import Derived.Deep.RegionHeld3
namespace Go.Proofs.YtiandidencnlcaaDoor
open Go.RowKit

set_option maxRecDepth 100000 in
theorem udec_dead (A : Option Addr) (b : List Nat) (n c : Nat) (room : Int) (w : World) (S : Nat → Prop) (p t m : Nat) (L : List Fld) (hU : UD w S p t m L true) :
    Calls Tryd.prog 20 #[.pointer (some ⟨p, 0, none⟩), .slice A n c, .int .i64 room] w (UPost S w p t (udec b room true m L)) := by
  have x1 : w.cell? ⟨p, 1, none⟩ = some (.bool true) := by
    obtain ⟨_, _, ⟨_, hh, _⟩, _⟩ := hU
    exact cell_of_row _ p 1 _ 73 _ hh
  have HU := Lib.hid hU
  clear hU
  go_enter Tryd.func20, Tryd.ntmps20
  go_wp2
  go_ret2
  exact ⟨S, none, 0, rfl, HU.out, fun _ h => .inl h, Keeps.refl _ _, atF_nil _ _ _, fun _ => rfl, Nat.le_refl _, fun b o s h => by cases h⟩
set_option maxRecDepth 100000 in
set_option maxHeartbeats 8000000 in
theorem udec_live (A : Option Addr) (b : List Nat) (n c : Nat) (room : Int) (w : World) (hR : Rdy w) (S : Nat → Prop) (p t m : Nat) (L : List Fld) (hU : UD1 w S p t m L false) (hA : At .u8 w w.heap.size A b) (hb : ∀ x ∈ b, x < 256) (hl : b.length = n) (hA0 : A = none → c = 0) (hnc : n ≤ c) (hn : n ≤ 100000) (hAS : b ≠ [] → ∀ a, A = some a → ¬ S a.block) :
    Calls Tryd.prog 20 #[.pointer (some ⟨p, 0, none⟩), .slice A n c, .int .i64 room] w (UPost S w p t (udec b room false m L)) := by
  obtain ⟨S1, hh, hT, hnp, hS, hF, hnf⟩ := hU
  have hpl := lt_of_heap hh
  have hF1 : Free S1 := hF.sub (fun x hx => (hS x).2 (.inr hx))
  have x0 : w.cell? ⟨p, 0, none⟩ = some (.pointer (some ⟨t, 0, none⟩)) := cell_of_row _ p 0 _ 73 _ hh
  have x1 : w.cell? ⟨p, 1, none⟩ = some (.bool false) := cell_of_row _ p 1 _ 73 _ hh
  have hm : m ≤ 4096 := hT.fits.2
  have hd : Below w.heap.size w w.drew := (Below.refl _ _).drew
  have HKT : Hid (∀ W, Below w.heap.size w W → DT W S1 t m L) := Lib.hid (fun W hB => hT.keep (S' := fun _ => False) (Keeps.of_below hB) (fun _ _ h => h))
  have HMOST : Hid (∀ W, Below w.heap.size w W → Calls Tryd.prog 24 #[.pointer (some ⟨t, 0, none⟩)] W (NumPost W m)) := Lib.hid (fun W hB => dmost_f W S1 t m L (hR.below hB) (HKT.out W hB))
  have HELD : Hid (∀ W, Below w.heap.size w W → Calls Tryd.prog 39 #[.pointer (some ⟨t, 0, none⟩)] W (ElPost W)) := Lib.hid (fun W hB => ueld_f W (hR.below hB) S1 t m L (HKT.out W hB))
  have HX : Hid (∀ W, Below w.heap.size w W → W.cell? ⟨p, 0, none⟩ = some (.pointer (some ⟨t, 0, none⟩))) := Lib.hid (fun W hB => (hB.cell (p := ⟨p, 0, none⟩) hpl).trans x0)
  obtain ⟨D, hD⟩ : ∃ D, D = udec b room false m L := ⟨_, rfl⟩
  rw [← hD]
  have HREAD : Hid (∀ W, Below w.heap.size w W → Calls Tryd.prog 40 #[.pointer (some ⟨p, 0, none⟩), .slice A n c, .int .i64 room] W (RdPost W S1 t D)) := Lib.hid (fun W hB => by
    rw [hD]
    refine uread_f A b n c room W S1 p t m L ⟨hR.below hB, hF1, hb, by omega, HX.out W hB, hnp⟩ (HKT.out W hB) hnf (hA.up hB) hl hA0 hnc (fun hne a ha hs => hAS hne a ha ((hS _).2 (.inr hs))))
  -- what the decoder is behind read
  have HROW : Hid (∀ W W', Below w.heap.size w W → Keeps S1 W W' → W'.heap[p]? = some (.cells #[.pointer (some ⟨t, 0, none⟩), .bool false] 73 (0, 0))) := Lib.hid (fun W W' hB hK => (hK.block p (Nat.lt_of_lt_of_le hpl hB.size) hnp).trans ((hB.block p hpl).trans hh))
  have HLOW : Hid (∀ x, S1 x → x < w.heap.size) := Lib.hid hT.low
  have HS := Lib.hid hS
  have HF := Lib.hid hF
  have HF1 := Lib.hid hF1
  have HR := Lib.hid hR
  have HNP := Lib.hid hnp
  clear hh hT hnp hS hF hF1 hnf hR hA hb hl hA0 hnc hAS hD HKT
  go_enter Tryd.func20, Tryd.ntmps20
  go_wp2
  go_region_held3 (fun w' => w'.cell? ⟨p, 0, none⟩ = some (.pointer (some ⟨t, 0, none⟩)))
    (first
      | exact x0
      | exact HX.out _ hb3
      | exact HX.out _ hb2)
    (first
      | ((with_reducible refine (HMOST.out _ hd).mono ?_); rintro e w2 ⟨rfl, hb2'⟩; have hb2 := hd.trans (hb2'.mono hd.size))
      | ((with_reducible refine (HELD.out _ hb2).mono ?_); rintro e w3 ⟨A3, c3, r, rfl, hat3, hr3, hrl3, hrc3, hA03, hnew3, hb3'⟩; have hb3 := hb2.trans (hb3'.mono hb2.size)))
  have HRD := Lib.hid (HREAD.out w3 hb3)
  have HB3 := Lib.hid hb3
  have HR3 : Hid (Rdy w3) := Lib.hid (HR.out.below hb3)
  have HAT3 := Lib.hid hat3
  have HRR : Hid ((∀ f ∈ r, fsize f ≤ 4096) ∧ r.length ≤ 128 ∧ ∀ b o s, A3 = some ⟨b, o, s⟩ → w2.heap.size ≤ b ∧ b < w3.heap.size) := Lib.hid ⟨hr3, hrl3, hnew3⟩
  have HB2 := Lib.hid hb2
  clear hat3 hr3 hrl3 hrc3 hA03 hnew3 hb3 hb3' hb2 hb2' HREAD HELD HMOST x0 x1 hd
  go_wp2_with fail
  with_reducible refine (HRD.out).mono ?_
  rintro e w4 ⟨S2, A4, c4, m1, L1, rfl, hT4, hnf4, hlive, hS2, hK4, hat4, hA04, hc4, hnew4, hcase⟩
  simp only []
  have hh4 := HROW.out w3 w4 HB3.out hK4
  have HT4 := Lib.hid hT4
  have HNF4 := Lib.hid hnf4
  have HLV := Lib.hid hlive
  have HS2 := Lib.hid hS2
  have HK4 := Lib.hid hK4
  have HOUT : Hid (AtF w4 w4.heap.size A4 D.out ∧ (A4 = none → c4 = 0) ∧ D.out.length ≤ c4 ∧ (∀ b o s, A4 = some ⟨b, o, s⟩ → w3.heap.size ≤ b ∧ ¬ S2 b)) := Lib.hid ⟨hat4, hA04, hc4, hnew4⟩
  have HH4 := Lib.hid hh4
  have hp3 : p < w3.heap.size := Nat.lt_of_lt_of_le hpl HB3.out.size
  have HNP2 : Hid (¬ S2 p) := Lib.hid (fun h => by
    rcases hS2 p h with h1 | h1
    · exact HNP.out h1
    · omega)
  have HF2 : Hid (Free S2) := Lib.hid (HF1.out.more HR3.out hS2)
  clear hT4 hnf4 hlive hS2 hK4 hat4 hA04 hc4 hnew4 HRD
  obtain ⟨dout, derr, ddead, dmost, dtab⟩ := D
  simp only [] at hcase HOUT HLV ⊢
  rcases hcase with ⟨e1, e2, e3, e4⟩ | ⟨e1, e2⟩
  · subst e1 e2 e3 e4
    have fz : w4.frozen? ⟨p, 1, none⟩ = false := frozen_of_row w4 p 1 _ 73 hh4
    have cz : w4.cell? ⟨p, 1, none⟩ = some (.bool false) := cell_of_row w4 p 1 _ 73 _ hh4
    have cz0 : w4.cell? ⟨p, 0, none⟩ = some (.pointer (some ⟨t, 0, none⟩)) := cell_of_row _ p 0 _ 73 _ hh4
    obtain ⟨w5, hw5⟩ : ∃ w5, w5 = w4.setCell ⟨p, 1, none⟩ (.bool true) := ⟨_, rfl⟩
    have hK5 : Keeps (fun x => x = p) w4 w5 := by rw [hw5]; exact (Keeps.refl (fun x => x = p) w4).setCell (p := ⟨p, 1, none⟩) rfl _
    have hh5 : w5.heap[p]? = some (.cells #[.pointer (some ⟨t, 0, none⟩), .bool true] 73 (0, 0)) := by
      rw [hw5]
      have := heap_setCell_same w4 p 1 _ 73 (.bool true) hh4
      simpa using this
    have x05 : w5.cell? ⟨p, 0, none⟩ = some (.pointer (some ⟨t, 0, none⟩)) := cell_of_row w5 p 0 _ 73 _ hh5
    have hT5 : DT w5 S2 t m1 L1 := HT4.out.keep hK5 (fun x hx e => HNP2.out (e ▸ hx))
    have hR4 : Rdy w4 := HR3.out.keep HK4.out HF1.out
    have hR5 : Rdy w5 := hR4.keep hK5 (fun e => HF.out ((HS.out 0).2 (.inl e)))
    have hA5 : AtF w5 w5.heap.size A3 r := fun hne => by
      obtain ⟨b3, o3, e, hb3, hc3⟩ := HAT3.out hne
      have hnb := (HRR.out.2.2 b3 o3 none e).1
      have hwb : w.heap.size ≤ b3 := Nat.le_trans HB2.out.size hnb
      have hk : ∀ i, w5.cell? ⟨b3, i, none⟩ = w3.cell? ⟨b3, i, none⟩ := fun i => by
        rw [hK5.cell (p := ⟨b3, i, none⟩) (Nat.lt_of_lt_of_le hb3 HK4.out.size) (fun e => by simp at e; omega), HK4.out.cell (p := ⟨b3, i, none⟩) hb3 (fun h => by have := HLOW.out b3 h; omega)]
      refine ⟨b3, o3, e, Nat.lt_of_lt_of_le hb3 (Nat.le_trans HK4.out.size hK5.size), fun i hi => ?_⟩
      rw [hk, hk, hk]
      exact hc3 i hi
    have hAS5 : ∀ a, A3 = some a → ¬ S2 a.block := fun a e h => by
      obtain ⟨h1, h2⟩ := HRR.out.2.2 a.block a.off a.spot e
      have h3 := HB2.out.size
      rcases HS2.out _ h with h | h
      · have := HLOW.out _ h
        omega
      · omega
    have HREF := Lib.hid (urefill_f w5 hR5 S2 HF2.out t m1 m L1 hT5 HNF4.out hm A3 c3 r hA5 HRR.out.1 hAS5 HRR.out.2.1)
    have HFIN : Hid (∀ w6 m2 L2, DPost S2 w5 t m2 L2 w6 → NoNev L2 → UPost S w p t ⟨[], 2, true, dmost, dtab⟩ (.returned (.tuple #[.slice none 0 c4, .int .i64 2])) w6) := Lib.hid (fun w6 m2 L2 hP hnf6 => by
      obtain ⟨S3, hT6, hS3, hK6⟩ := hP
      have hpl5 := lt_of_heap hh5
      have h36 : ∀ x, S3 x → S1 x ∨ w.heap.size ≤ x := fun x hx => by
        rcases hS3 x hx with h | h
        · rcases HS2.out x h with h | h
          · exact .inl h
          · exact .inr (Nat.le_trans HB3.out.size h)
        · exact .inr (Nat.le_trans HB3.out.size (Nat.le_trans HK4.out.size (Nat.le_trans hK5.size h)))
      have hS' : ∀ x, (x = p ∨ S3 x) → S x ∨ w.heap.size ≤ x := fun x hx => by
        rcases hx with rfl | hx
        · exact .inl ((HS.out _).2 (.inl rfl))
        · rcases h36 x hx with h | h
          · exact .inl ((HS.out x).2 (.inr h))
          · exact .inr h
      refine ⟨fun x => x = p ∨ S3 x, none, c4, rfl, ⟨m2, L2, ⟨S3, (hK6.block p hpl5 HNP2.out).trans hh5, hT6, fun h => ?_, fun x => Iff.rfl, HF.out.more HR.out hS', hnf6⟩, fun h => (Bool.noConfusion h)⟩, hS', ?_, atF_nil _ _ _, HOUT.out.2.1, Nat.zero_le _, fun b o s h => (by cases h)⟩
      · rcases hS3 p h with h | h
        · exact HNP2.out h
        · omega
      · refine (((Keeps.of_below (S := S) HB3.out).trans HK4.out (fun x hx _ => (HS.out x).2 (.inr hx))).trans hK5 (fun x hx _ => (HS.out x).2 (.inl hx))).trans hK6 (fun x hx hlt => ?_)
        rcases HS2.out x hx with h | h
        · exact (HS.out x).2 (.inr h)
        · have := HB3.out.size
          omega)
    have HW5 := Lib.hid hw5
    clear hK5 hh5 x05 hT5 hR4 hR5 hA5 hAS5 hh4 hw5
    go_wp2_with fail
    rw [← HW5.out]
    with_reducible refine (HREF.out).mono ?_
    rintro e w6 ⟨rfl, m2, L2, hP, hnf6⟩
    have hfin := Lib.hid (HFIN.out w6 m2 L2 hP hnf6)
    clear hP hnf6 HREF HFIN fz cz cz0 HW5
    go_wp2
    go_ret2
    exact hfin.out
  · subst e1
    have qe : ((derr : Int) == 2) = false := by simp; omega
    obtain ⟨em, eL⟩ := HLV.out rfl
    subst em eL
    have hS' : ∀ x, (x = p ∨ S2 x) → S x ∨ w.heap.size ≤ x := fun x hx => by
      rcases hx with rfl | hx
      · exact .inl ((HS.out _).2 (.inl rfl))
      · rcases HS2.out x hx with h | h
        · exact .inl ((HS.out x).2 (.inr h))
        · exact .inr (Nat.le_trans HB3.out.size h)
    have HFIN : Hid (UPost S w p t ⟨dout, derr, false, m1, L1⟩ (.returned (.tuple #[.slice A4 dout.length c4, .int .i64 (derr : Int)])) w4) := Lib.hid (by
      obtain ⟨o1, o2, o3, o4⟩ := HOUT.out
      refine ⟨fun x => x = p ∨ S2 x, A4, c4, rfl, UD1.whole ⟨S2, hh4, HT4.out, HNP2.out, fun x => Iff.rfl, HF.out.more HR.out hS', HNF4.out⟩, hS', (Keeps.of_below (S := S) HB3.out).trans HK4.out (fun x hx _ => (HS.out x).2 (.inr hx)), o1, o2, o3, fun b o s e => ⟨Nat.le_trans HB3.out.size (o4 b o s e).1, fun h => ?_⟩⟩
      have h1 := (o4 b o s e).1
      rcases h with rfl | h
      · omega
      · exact (o4 b o s e).2 h)
    clear hh4 hS' HLV e2
    go_wp2
    go_ret2
    exact HFIN.out
theorem udec_f (A : Option Addr) (b : List Nat) (n c : Nat) (room : Int) (w : World) (hR : Rdy w) (S : Nat → Prop) (p t m : Nat) (L : List Fld) (dead : Bool) (hU : UD w S p t m L dead) (hA : At .u8 w w.heap.size A b) (hb : ∀ x ∈ b, x < 256) (hl : b.length = n) (hA0 : A = none → c = 0) (hnc : n ≤ c) (hn : n ≤ 100000) (hAS : b ≠ [] → ∀ a, A = some a → ¬ S a.block) (_ : Rng room) :
    Calls Tryd.prog 20 #[.pointer (some ⟨p, 0, none⟩), .slice A n c, .int .i64 room] w (UPost S w p t (udec b room dead m L)) := by
  cases dead with
  | true => exact udec_dead A b n c room w S p t m L hU
  | false =>
    obtain ⟨m1, L1, h1, he⟩ := hU
    obtain ⟨rfl, rfl⟩ := he rfl
    exact udec_live A b n c room w hR S p t m1 L1 h1 hA hb hl hA0 hnc hn hAS
end Go.Proofs.YtiandidencnlcaaDoor
/- One decoder in use: what each call needs and leaves, in one word. -/
namespace Go.Proofs.YtiandidencnlcaaDoor
open Go.RowKit

/-- Since w a decoder was made at p, out of new blocks; X: blocks that are not its own. -/
def HasU (w : World) (X : Nat → Prop) (p t m : Nat) (L : List Fld) (dead : Bool) (wr : World) : Prop := ∃ S, UD wr S p t m L dead ∧ (∀ x, S x → w.heap.size ≤ x) ∧ (∀ x, X x → x < wr.heap.size ∧ ¬ S x) ∧ Below w.heap.size w wr
section
variable {w wr w' : World} {X : Nat → Prop} {p t m : Nat} {L : List Fld} {dead : Bool}
theorem HasU.below (h : HasU w X p t m L dead wr) : Below w.heap.size w wr := by
  obtain ⟨_, _, _, _, h⟩ := h
  exact h
theorem HasU.quiet (h : HasU w X p t m L dead wr) (hb : Below wr.heap.size wr w') : HasU w X p t m L dead w' := by
  obtain ⟨S, h1, h2, h3, h4⟩ := h
  exact ⟨S, h1.quiet hb, h2, fun x hx => ⟨Nat.lt_of_lt_of_le (h3 x hx).1 hb.size, (h3 x hx).2⟩, h4.trans (hb.mono h4.size)⟩
/-- New blocks are not its own. -/
theorem HasU.more (h : HasU w X p t m L dead wr) (hb : Below wr.heap.size wr w') : HasU w (fun x => X x ∨ (wr.heap.size ≤ x ∧ x < w'.heap.size)) p t m L dead w' := by
  obtain ⟨S, h1, h2, h3, h4⟩ := h
  refine ⟨S, h1.quiet hb, h2, fun x hx => ?_, h4.trans (hb.mono h4.size)⟩
  rcases hx with hx | ⟨h5, h6⟩
  · exact ⟨Nat.lt_of_lt_of_le (h3 x hx).1 hb.size, (h3 x hx).2⟩
  · exact ⟨h6, fun hs => by have := h1.low x hs; omega⟩
theorem HasU.less {X' : Nat → Prop} (h : HasU w X p t m L dead wr) (hX : ∀ x, X' x → X x) : HasU w X' p t m L dead wr := by
  obtain ⟨S, h1, h2, h3, h4⟩ := h
  exact ⟨S, h1, h2, fun x hx => h3 x (hX x hx), h4⟩
theorem HasU.new (hR : Rdy wr) (hw : Below w.heap.size w wr) : Calls Tryd.prog 19 #[] wr fun e w' => ∃ p t, e = .returned (.pointer (some ⟨p, 0, none⟩)) ∧ HasU w (fun x => x < wr.heap.size) p t 4096 [] false w' ∧ Below wr.heap.size wr w' := by
  refine (unew_f wr hR).mono ?_
  rintro e w1 ⟨p, t, S, rfl, hU, hS, hb⟩
  exact ⟨p, t, rfl, ⟨S, hU, fun x hx => Nat.le_trans hw.size (hS x hx), fun x hx => ⟨Nat.lt_of_lt_of_le hx hb.size, fun hs => by have := hS x hs; omega⟩, hw.trans (hb.mono hw.size)⟩, hb⟩
/-- What a block hands back beside the decoder. -/
structure Outs (wr : World) (X : Nat → Prop) (A : Option Addr) (c : Nat) (out : List Fld) (w' : World) : Prop where
  at' : AtF w' w'.heap.size A out
  nil : A = none → c = 0
  cap : out.length ≤ c
  size : wr.heap.size ≤ w'.heap.size
  kept : ∀ x, X x → w'.heap[x]? = wr.heap[x]?
theorem HasU.dec (h : HasU w X p t m L dead wr) (hR : Rdy wr) (A : Option Addr) (b : List Nat) (n c : Nat) (room : Int) (hA : At .u8 wr wr.heap.size A b) (hb : ∀ x ∈ b, x < 256) (hl : b.length = n) (hA0 : A = none → c = 0) (hnc : n ≤ c) (hn : n ≤ 100000) (hAX : b ≠ [] → ∀ a, A = some a → X a.block) (hr : Rng room) :
    Calls Tryd.prog 20 #[.pointer (some ⟨p, 0, none⟩), .slice A n c, .int .i64 room] wr fun e w' => ∃ A2 c2, e = .returned (.tuple #[.slice A2 (udec b room dead m L).out.length c2, .int .i64 (((udec b room dead m L).err : Nat) : Int)]) ∧ HasU w (fun x => X x ∨ (x < w'.heap.size ∧ ∃ o s, A2 = some ⟨x, o, s⟩)) p t (udec b room dead m L).most (udec b room dead m L).tab (udec b room dead m L).dead w' ∧ Outs wr X A2 c2 (udec b room dead m L).out w' := by
  obtain ⟨S, h1, h2, h3, h4⟩ := h
  refine (udec_f A b n c room wr hR S p t m L dead h1 hA hb hl hA0 hnc hn (fun hne a ha => (h3 _ (hAX hne a ha)).2) hr).mono ?_
  rintro e w1 ⟨S', A2, c2, rfl, hU, hS', hK, hat, hA2, hlc, hnew⟩
  refine ⟨A2, c2, rfl, ⟨S', hU, fun x hx => ?_, fun x hx => ?_, h4.trans (hK.below h2 h4.size)⟩, ⟨hat, hA2, hlc, hK.size, fun x hx => hK.block x (h3 x hx).1 (h3 x hx).2⟩⟩
  · rcases hS' x hx with h | h
    · exact h2 x h
    · exact Nat.le_trans h4.size h
  · rcases hx with hx | ⟨hlt, o, s, rfl⟩
    · refine ⟨Nat.lt_of_lt_of_le (h3 x hx).1 hK.size, fun hs => ?_⟩
      rcases hS' x hs with h | h
      · exact (h3 x hx).2 h
      · have := (h3 x hx).1
        omega
    · exact ⟨hlt, (hnew x o s rfl).2⟩
theorem HasU.table (h : HasU w X p t m L dead wr) (hR : Rdy wr) : Calls Tryd.prog 22 #[.pointer (some ⟨p, 0, none⟩)] wr fun e w' => e = .returned (.pointer (some ⟨t, 0, none⟩)) ∧ HasU w X p t m L dead w' ∧ Below wr.heap.size wr w' := by
  obtain ⟨S, h1, _⟩ := id h
  refine (utab_f wr hR S p t m L dead h1).mono ?_
  rintro e w1 ⟨rfl, hb⟩
  exact ⟨rfl, h.quiet hb, hb⟩
theorem HasU.len (h : HasU w X p t m L false wr) (hR : Rdy wr) : Calls Tryd.prog 23 #[.pointer (some ⟨t, 0, none⟩)] wr (NumPost wr L.length) := by
  obtain ⟨S, h1, _⟩ := h
  obtain ⟨S2, m1, L1, hT, he⟩ := h1.dt
  obtain ⟨rfl, rfl⟩ := he rfl
  exact dlen_f wr S2 t m1 L1 hR hT
theorem HasU.most (h : HasU w X p t m L false wr) (hR : Rdy wr) : Calls Tryd.prog 24 #[.pointer (some ⟨t, 0, none⟩)] wr (NumPost wr m) := by
  obtain ⟨S, h1, _⟩ := h
  obtain ⟨S2, m1, L1, hT, he⟩ := h1.dt
  obtain ⟨rfl, rfl⟩ := he rfl
  exact dmost_f wr S2 t m1 L1 hR hT
end
end Go.Proofs.YtiandidencnlcaaDoor
