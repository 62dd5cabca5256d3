/- An encoder and a decoder of the program, side by side. -/
import Derived.Test.YtiandidencnlcaaDoorQRef
import Derived.Test.YtiandidencnlcaaDoorUUse
import Derived.Test.YtiandidencnlcaaDoorLRng
import Derived.Test.YtiandidencnlcaaDoorPGetD
import Derived.Test.YtiandidencnlcaaDoorLPost
import Derived.Lib.SmallJoins
namespace Go.Proofs.YtiandidencnlcaaDoor
open Go.RowKit

/-- Since w an encoder was made at pa and a decoder at pd, out of new blocks; the decoder is not dead; Y: blocks that are neither's. -/
def PD (w : World) (pa ta : Nat) (sa : EncS) (pd td m : Nat) (L : List Fld) (Y : Nat → Prop) (wr : World) : Prop :=
  ∃ Sa Sd, QE wr Sa pa ta sa ∧ UD wr Sd pd td m L false ∧ (∀ x, Sa x → w.heap.size ≤ x) ∧ (∀ x, Sd x → w.heap.size ≤ x) ∧ (∀ x, Sa x → ¬ Sd x) ∧ (∀ x, Y x → x < wr.heap.size ∧ ¬ Sa x ∧ ¬ Sd x) ∧ Below w.heap.size w wr
section
variable {w wr w' : World} {pa ta pd td m : Nat} {sa : EncS} {L : List Fld} {Y Y' : Nat → Prop}
theorem PD.below (h : PD w pa ta sa pd td m L Y wr) : Below w.heap.size w wr := by
  obtain ⟨_, _, _, _, _, _, _, _, h⟩ := h
  exact h
theorem PD.quiet (h : PD w pa ta sa pd td m L Y wr) (hb : Below wr.heap.size wr w') : PD w pa ta sa pd td m L Y w' := by
  obtain ⟨Sa, Sd, h1, h2, h3, h4, h5, h6, h7⟩ := h
  exact ⟨Sa, Sd, h1.quiet hb, h2.quiet hb, h3, h4, h5, fun x hx => ⟨Nat.lt_of_lt_of_le (h6 x hx).1 hb.size, (h6 x hx).2⟩, h7.trans (hb.mono h7.size)⟩
theorem PD.more (h : PD w pa ta sa pd td m L Y wr) (hb : Below wr.heap.size wr w') : PD w pa ta sa pd td m L (fun x => Y x ∨ (wr.heap.size ≤ x ∧ x < w'.heap.size)) w' := by
  obtain ⟨Sa, Sd, h1, h2, h3, h4, h5, h6, h7⟩ := h
  refine ⟨Sa, Sd, h1.quiet hb, h2.quiet hb, h3, h4, h5, fun x hx => ?_, h7.trans (hb.mono h7.size)⟩
  rcases hx with hx | ⟨h8, h9⟩
  · exact ⟨Nat.lt_of_lt_of_le (h6 x hx).1 hb.size, (h6 x hx).2⟩
  · exact ⟨h9, fun hs => by have := h1.low x hs; omega, fun hs => by have := h2.low x hs; omega⟩
theorem PD.less (h : PD w pa ta sa pd td m L Y wr) (hY : ∀ x, Y' x → Y x) : PD w pa ta sa pd td m L Y' wr := by
  obtain ⟨Sa, Sd, h1, h2, h3, h4, h5, h6, h7⟩ := h
  exact ⟨Sa, Sd, h1, h2, h3, h4, h5, fun x hx => h6 x (hY x hx), h7⟩
/-- Both are made; Y: what was there ahead of them. -/
theorem PD.made {Sa Sd : Nat → Prop} {w1 : World} (hw : Below w.heap.size w w1) (ha : QE w' Sa pa ta sa) (hd : UD w' Sd pd td m L false) (h1 : ∀ x, Sa x → w1.heap.size ≤ x) (h2 : ∀ x, Sd x → w1.heap.size ≤ x) (h3 : ∀ x, Sa x → ¬ Sd x) (hb : Below w1.heap.size w1 w') : PD w pa ta sa pd td m L (fun x => x < w1.heap.size) w' :=
  ⟨Sa, Sd, ha, hd, fun x hx => Nat.le_trans hw.size (h1 x hx), fun x hx => Nat.le_trans hw.size (h2 x hx), h3, fun x hx => ⟨Nat.lt_of_lt_of_le hx hb.size, fun h => by have := h1 x h; omega, fun h => by have := h2 x h; omega⟩, hw.trans (hb.mono hw.size)⟩
theorem PD.peer (h : PD w pa ta sa pd td m L Y wr) (hR : Rdy wr) (n : Int) (hn : Rng n) : Calls Tryd.prog 12 #[.pointer (some ⟨pa, 0, none⟩), .int .i64 n] wr fun e w' => e = .returned (.tuple #[]) ∧ PD w pa ta (sa.peer n) pd td m L Y w' ∧ Keeps (fun x => ¬ Y x) wr w' := by
  obtain ⟨Sa, Sd, h1, h2, h3, h4, h5, h6, h7⟩ := h
  refine (qpeer_f n wr hR Sa pa ta sa h1 hn).mono ?_
  rintro e w1 ⟨rfl, S', hU, hS', hK⟩
  refine ⟨rfl, ⟨S', Sd, hU, h2.keep hK (fun x hx hs => h5 x hs hx), fun x hx => ?_, h4, fun x hx hd => ?_, fun x hx => ⟨Nat.lt_of_lt_of_le (h6 x hx).1 hK.size, fun hs => ?_, (h6 x hx).2.2⟩, h7.trans (hK.below h3 h7.size)⟩, hK.mono (fun x _ hx hy => (h6 x hy).2.1 hx)⟩
  · rcases hS' x hx with h | h
    · exact h3 x h
    · exact Nat.le_trans h7.size h
  · rcases hS' x hx with h | h
    · exact h5 x h hd
    · have := h2.low x hd
      omega
  · rcases hS' x hs with h | h
    · exact (h6 x hx).2.1 h
    · have := (h6 x hx).1
      omega
theorem PD.enc (h : PD w pa ta sa pd td m L Y wr) (hR : Rdy wr) (A : Option Addr) (l : List Fld) (n c : Nat) (hA : AtF wr wr.heap.size A l) (hl : l.length = n) (hA0 : A = none → c = 0) (hnc : n ≤ c) (hAY : l ≠ [] → ∀ a, A = some a → a.block < w.heap.size) (ht : tot l ≤ 100000) :
    Calls Tryd.prog 14 #[.pointer (some ⟨pa, 0, none⟩), .slice A n c] wr fun e w' => ∃ A2 c2, e = .returned (.tuple #[.slice A2 (sa.enc l).1.length c2, .int .i64 (((sa.enc l).2.1 : Nat) : Int)]) ∧ PD w pa ta (sa.enc l).2.2 pd td m L (fun x => Y x ∨ (x < w'.heap.size ∧ ∃ o s, A2 = some ⟨x, o, s⟩)) w' ∧ Keeps (fun x => ¬ Y x) wr w' ∧ At .u8 w' w'.heap.size A2 (sa.enc l).1 ∧ (A2 = none → c2 = 0) ∧ (sa.enc l).1.length ≤ c2 := by
  obtain ⟨Sa, Sd, h1, h2, h3, h4, h5, h6, h7⟩ := h
  refine (qenc_f A l n c wr hR Sa pa ta sa h1 hA hl hA0 hnc (fun hne a ha hs => by have := h3 _ hs; have := hAY hne a ha; omega) ht).mono ?_
  rintro e w1 ⟨S', A2, c2, rfl, hU, hS', hK, hat, hA2, hlc, hnew⟩
  have hdis : ∀ x, S' x → ¬ Sd x := fun x hx hd => by
    rcases hS' x hx with h | h
    · exact h5 x h hd
    · have := h2.low x hd
      omega
  refine ⟨A2, c2, rfl, ⟨S', Sd, hU, h2.keep hK (fun x hx hs => h5 x hs hx), fun x hx => ?_, h4, hdis, fun x hx => ?_, h7.trans (hK.below h3 h7.size)⟩, hK.mono (fun x _ hx hy => (h6 x hy).2.1 hx), hat, hA2, hlc⟩
  · rcases hS' x hx with h | h
    · exact h3 x h
    · exact Nat.le_trans h7.size h
  · rcases hx with hx | ⟨hlt, o, s, rfl⟩
    · refine ⟨Nat.lt_of_lt_of_le (h6 x hx).1 hK.size, fun hs => ?_, (h6 x hx).2.2⟩
      rcases hS' x hs with h | h
      · exact (h6 x hx).2.1 h
      · have := (h6 x hx).1
        omega
    · refine ⟨hlt, (hnew x o s rfl).2, fun hd => ?_⟩
      have := (hnew x o s rfl).1
      have := h2.low x hd
      omega
theorem PD.dec (h : PD w pa ta sa pd td m L Y wr) (hR : Rdy wr) (A : Option Addr) (b : List Nat) (n c : Nat) (room : Int) (hA : At .u8 wr wr.heap.size A b) (hb : ∀ x ∈ b, x < 256) (hl : b.length = n) (hA0 : A = none → c = 0) (hnc : n ≤ c) (hn : n ≤ 100000) (hAY : b ≠ [] → ∀ a, A = some a → Y a.block) (hr : Rng room) (D : Blk) (hD : udec b room false m L = D) (hlive : D.dead = false) :
    Calls Tryd.prog 20 #[.pointer (some ⟨pd, 0, none⟩), .slice A n c, .int .i64 room] wr fun e w' => ∃ A2 c2, e = .returned (.tuple #[.slice A2 D.out.length c2, .int .i64 ((D.err : Nat) : Int)]) ∧ PD w pa ta sa pd td D.most D.tab (fun x => Y x ∨ (x < w'.heap.size ∧ ∃ o s, A2 = some ⟨x, o, s⟩)) w' ∧ Keeps (fun x => ¬ Y x) wr w' ∧ AtF w' w'.heap.size A2 D.out ∧ (A2 = none → c2 = 0) ∧ D.out.length ≤ c2 := by
  obtain ⟨Sa, Sd, h1, h2, h3, h4, h5, h6, h7⟩ := h
  refine (udec_f A b n c room wr hR Sd pd td m L false h2 hA hb hl hA0 hnc hn (fun hne a ha => (h6 _ (hAY hne a ha)).2.2) hr).mono ?_
  rintro e w1 ⟨S', A2, c2, rfl, hU, hS', hK, hat, hA2, hlc, hnew⟩
  rw [hD] at hU hat hlc ⊢
  rw [hlive] at hU
  have hdis : ∀ x, Sa x → ¬ S' x := fun x ha hx => by
    rcases hS' x hx with h | h
    · exact h5 x ha h
    · have := h1.low x ha
      omega
  refine ⟨A2, c2, rfl, ⟨Sa, S', h1.keep hK (fun x hx hs => h5 x hx hs), hU, h3, fun x hx => ?_, hdis, fun x hx => ?_, h7.trans (hK.below h4 h7.size)⟩, hK.mono (fun x _ hx hy => (h6 x hy).2.2 hx), hat, hA2, hlc⟩
  · rcases hS' x hx with h | h
    · exact h4 x h
    · exact Nat.le_trans h7.size h
  · rcases hx with hx | ⟨hlt, o, s, rfl⟩
    · refine ⟨Nat.lt_of_lt_of_le (h6 x hx).1 hK.size, (h6 x hx).2.1, fun hs => ?_⟩
      rcases hS' x hs with h | h
      · exact (h6 x hx).2.2 h
      · have := (h6 x hx).1
        omega
    · refine ⟨hlt, fun hs => ?_, (hnew x o s rfl).2⟩
      have := (hnew x o s rfl).1
      have := h1.low x hs
      omega
theorem PD.tabA (h : PD w pa ta sa pd td m L Y wr) (hR : Rdy wr) : Calls Tryd.prog 18 #[.pointer (some ⟨pa, 0, none⟩)] wr fun e w' => e = .returned (.pointer (some ⟨ta, 0, none⟩)) ∧ Below wr.heap.size wr w' := by
  obtain ⟨Sa, Sd, h1, _⟩ := h
  exact qtab_f wr hR Sa pa ta sa h1
theorem PD.tabD (h : PD w pa ta sa pd td m L Y wr) (hR : Rdy wr) : Calls Tryd.prog 22 #[.pointer (some ⟨pd, 0, none⟩)] wr fun e w' => e = .returned (.pointer (some ⟨td, 0, none⟩)) ∧ Below wr.heap.size wr w' := by
  obtain ⟨Sa, Sd, _, h2, _⟩ := h
  exact utab_f wr hR Sd pd td m L false h2
theorem PD.dtA (h : PD w pa ta sa pd td m L Y wr) : ∃ S, DT wr S ta sa.most sa.tab := by
  obtain ⟨Sa, Sd, h1, _⟩ := h
  exact h1.dt
theorem PD.dtD (h : PD w pa ta sa pd td m L Y wr) : ∃ S, DT wr S td m L := by
  obtain ⟨Sa, Sd, _, h2, _⟩ := h
  obtain ⟨S2, m1, L1, hT, he⟩ := h2.dt
  obtain ⟨rfl, rfl⟩ := he rfl
  exact ⟨S2, hT⟩
end
end Go.Proofs.YtiandidencnlcaaDoor
/- The landed Same. -/
namespace Go.Proofs.YtiandidencnlcaaDoor
open Go.RowKit
set_option maxRecDepth 100000 in
set_option maxHeartbeats 4000000 in
theorem alike_s (f g : Fld) (w : World) : Calls Tryd.prog 45 #[.agg #[.string f.name, .string f.value, .bool f.never], .agg #[.string g.name, .string g.value, .bool g.never]] w (BoolPost w (alike f g)) := by
  obtain ⟨f1, f2, f3⟩ := f
  obtain ⟨g1, g2, g3⟩ := g
  unfold alike
  simp only []
  cases hN : f1.toList == g1.toList with
  | false =>
    go_enter Tryd.func45, Tryd.ntmps45
    go_wp2
    go_ret
    exact ⟨rfl, ((Below.refl _ _).alloc (Nat.le_refl _) _).alloc (by simp) _⟩
  | true =>
    cases hV : f2.toList == g2.toList with
    | false =>
      go_enter Tryd.func45, Tryd.ntmps45
      go_wp2
      go_ret
      exact ⟨rfl, ((Below.refl _ _).alloc (Nat.le_refl _) _).alloc (by simp) _⟩
    | true =>
      go_enter Tryd.func45, Tryd.ntmps45
      go_wp2
      go_ret
      exact ⟨rfl, ((Below.refl _ _).alloc (Nat.le_refl _) _).alloc (by simp) _⟩
set_option maxRecDepth 100000 in
set_option maxHeartbeats 4000000 in
theorem equal_s (A B : Option Addr) (a b : List Fld) (n m c d : Nat) (w : World) (hA : AtF w w.heap.size A a) (hB : AtF w w.heap.size B b) (hl : a.length = n) (hm : b.length = m) (hn : n ≤ 1000000) : Calls Tryd.prog 44 #[.slice A n c, .slice B m d, .func (.func 45) #[] #[]] w (BoolPost w (sames a b)) := by
  have HA := Lib.hid hA
  have HB := Lib.hid hB
  have HL := Lib.hid hl
  have HM := Lib.hid hm
  obtain ⟨D, hD⟩ : ∃ D, D = sames a b := ⟨_, rfl⟩
  rw [← hD]
  have HD := Lib.hid hD
  clear hA hB hl hm hD
  by_cases hnm : n = m
  · subst hnm
    go_enter Tryd.func44, Tryd.ntmps44
    go_wp2
    go_loopw [17] (fun i wr => SmR a b D w i wr) (fun i _ => n - (intOf i).toNat)
    case atStart => exact ⟨0, Nat.zero_le _, rfl, HD.out.symm, Below.refl _ _⟩
    case round =>
      obtain ⟨k, hk, rfl, hsm, hbw⟩ := hrel
      by_cases hlt : k < n
      · have hka : k < a.length := by have := HL.out; omega
        have hkb : k < b.length := by have := HM.out; omega
        obtain ⟨b1, o1, rfl, hb1, hc1⟩ := HA.out.pos (by omega)
        obtain ⟨b2, o2, rfl, hb2, hc2⟩ := HB.out.pos (by omega)
        obtain ⟨f, hf⟩ : ∃ f, f = a[k] := ⟨_, rfl⟩
        obtain ⟨g, hg⟩ : ∃ g, g = b[k] := ⟨_, rfl⟩
        obtain ⟨c0, c1, c2⟩ := hc1 k hka
        obtain ⟨e0, e1, e2⟩ := hc2 k hkb
        rw [← hf] at c0 c1 c2
        rw [← hg] at e0 e1 e2
        have x0 : wr.cell? ⟨b1, o1 + k * 3, none⟩ = some (.string f.name) := (hbw.cell (p := ⟨b1, o1 + k * 3, none⟩) hb1).trans c0
        have x1 : wr.cell? ⟨b1, o1 + k * 3 + 1, none⟩ = some (.string f.value) := (hbw.cell (p := ⟨b1, o1 + k * 3 + 1, none⟩) hb1).trans c1
        have x2 : wr.cell? ⟨b1, o1 + k * 3 + 2, none⟩ = some (.bool f.never) := (hbw.cell (p := ⟨b1, o1 + k * 3 + 2, none⟩) hb1).trans c2
        have y0 : wr.cell? ⟨b2, o2 + k * 3, none⟩ = some (.string g.name) := (hbw.cell (p := ⟨b2, o2 + k * 3, none⟩) hb2).trans e0
        have y1 : wr.cell? ⟨b2, o2 + k * 3 + 1, none⟩ = some (.string g.value) := (hbw.cell (p := ⟨b2, o2 + k * 3 + 1, none⟩) hb2).trans e1
        have y2 : wr.cell? ⟨b2, o2 + k * 3 + 2, none⟩ = some (.bool g.never) := (hbw.cell (p := ⟨b2, o2 + k * 3 + 2, none⟩) hb2).trans e2
        have HNX : Hid (D = (alike f g && sames (a.drop (k + 1)) (b.drop (k + 1)))) := Lib.hid (by
          rw [← hsm, List.drop_eq_getElem_cons hka, List.drop_eq_getElem_cons hkb, sames, hf, hg])
        have ki : (k : Int) < (n : Int) := by omega
        have l1 : b1 < wr.heap.size := Nat.lt_of_lt_of_le hb1 hbw.size
        have l2 : b2 < wr.heap.size := Nat.lt_of_lt_of_le hb2 hbw.size
        have hbb := hbw
        clear hc1 hc2 hka hkb hf hg c0 c1 c2 e0 e1 e2 hsm hbw hb1 hb2
        have HBB := Lib.hid hbb
        clear hbb
        go_wp2_with fail
        with_reducible refine (alike_s f g _).mono ?_
        rintro e w2 ⟨rfl, hb2⟩
        have hb3 := (HBB.out.alloc HBB.out.size (.cells #[.string f.name, .string f.value, .bool f.never] 52)).alloc (by have := HBB.out.size; simp; omega) (.cells #[.string g.name, .string g.value, .bool g.never] 52)
        have hb4 := hb3.trans (hb2.mono hb3.size)
        have HB4 := Lib.hid hb4
        clear hb2 hb3 hb4 x0 x1 x2 y0 y1 y2 l1 l2
        cases hal : alike f g with
        | false =>
          have HDD : Hid (D = false) := Lib.hid (by rw [HNX.out, hal]; rfl)
          go_wp2
          go_ret
          rw [HDD.out]
          exact ⟨rfl, HB4.out⟩
        | true =>
          have HDD : Hid (sames (a.drop (k + 1)) (b.drop (k + 1)) = D) := Lib.hid (by rw [HNX.out, hal]; rfl)
          go_wp2
          go_roundw
          case rel => exact ⟨k + 1, by have := HL.out; omega, by go_num, HDD.out, HB4.out⟩
          case measure => simp [intOf]; omega
      · obtain rfl : k = n := by have := HL.out; omega
        have HDD : Hid (D = true) := Lib.hid (by
          rw [← hsm, List.drop_of_length_le (by have := HL.out; omega), List.drop_of_length_le (by have := HM.out; omega)]
          rfl)
        clear hsm
        go_wp2
        go_ret
        rw [HDD.out]
        exact ⟨rfl, hbw⟩
  · have HDD : Hid (D = false) := Lib.hid (by
      rw [HD.out]
      cases h : sames a b with
      | false => rfl
      | true => exact absurd (by rw [← HL.out, ← HM.out]; exact sames_len h) hnm)
    have q : ((n : Int) != (m : Int)) = true := by simp; omega
    go_enter Tryd.func44, Tryd.ntmps44
    go_wp2
    go_ret
    rw [HDD.out]
    exact ⟨rfl, Below.refl _ _⟩
set_option maxRecDepth 100000 in
theorem same_s (A B : Option Addr) (a b : List Fld) (n m c d : Nat) (w : World) (hA : AtF w w.heap.size A a) (hB : AtF w w.heap.size B b) (hl : a.length = n) (hm : b.length = m) (hn : n ≤ 1000000) : Calls Tryd.prog 27 #[.slice A n c, .slice B m d] w (BoolPost w (sames a b)) := by
  go_enter Tryd.func27, Tryd.ntmps27
  go_wp2_with fail
  with_reducible refine (equal_s A B a b n m c d w hA hB hl hm hn).mono ?_
  rintro e w2 ⟨rfl, hb2⟩
  go_wp2
  go_ret
  exact ⟨rfl, hb2⟩
theorem ssame_f (A B : Option Addr) (a b : List Fld) (n m c d : Nat) (w : World) (_ : Rdy w) (hA : AtF w w.heap.size A a) (hB : AtF w w.heap.size B b) (hl : a.length = n) (hm : b.length = m) (_ : A = none → c = 0) (_ : B = none → d = 0) (_ : n ≤ c) (_ : m ≤ d) (_ : tot a ≤ 1000000) (_ : tot b ≤ 1000000) (hn : n ≤ 1000) (_ : m ≤ 1000) : Calls Tryd.prog 27 #[.slice A n c, .slice B m d] w (BoolPost w (sames a b)) := same_s A B a b n m c d w hA hB hl hm (by omega)
end Go.Proofs.YtiandidencnlcaaDoor
/- A field that comes in by value. -/
namespace Go.Proofs.YtiandidencnlcaaDoor
open Go.ChangeShapes Go.WideShapes Go.ChangeAt Go.RowKit Go.Deep Go.Joins
open Go.ChangeMaps (shut_string)

set_option maxRecDepth 100000 in
theorem openedV {H : Type} {enc : TypeId × Value → H} {W : World} {b0 : Nat} {v : Value} {d : DataW H} {p : List MemPlace}
    (hv : Value.okWide Tryd.prog W .any b0 52 v) (h : DataW.Trod enc Tryd.prog W 0 (fun _ => true) true 52 v d p) :
    ∃ (F1 F2 : ByteArray) (F3 : Bool), v = .agg #[.string F1, .string F2, .bool F3] ∧ F1.size ≤ maxLen ∧ F2.size ≤ maxLen ∧ ∀ (W' : World) (sp : Nat → Bool), DataW.Trod enc Tryd.prog W' 0 sp true 52 v d p := by
  obtain ⟨v0, v1, v2, y0, y1, y2, n, rfl, rfl, rfl, h0, h1, h2⟩ := open_agg3 Tryd.underlying52 (by kernel_rfl) (by kernel_rfl) hv h
  obtain ⟨s0, e0, f0, g0⟩ := DataW.trod_string Tryd.underlying9 h0
  obtain ⟨s1, e1, f1, g1⟩ := DataW.trod_string Tryd.underlying9 h1
  obtain ⟨z2, e2, f2⟩ := DataW.trod_bool Tryd.underlying4 h2
  simp at e0 e1 e2
  subst e0 e1 e2 f0 f1 f2
  refine ⟨s0, s1, z2, rfl, g0, g1, fun W' sp => ?_⟩
  exact shut_agg3 Tryd.underlying52 (by kernel_rfl) (by kernel_rfl) (shut_string (enc := enc) (w := W') Tryd.underlying9 g0) (shut_string (enc := enc) (w := W') Tryd.underlying9 g1) (shut_bool (enc := enc) (w := W') Tryd.underlying4 z2)
end Go.Proofs.YtiandidencnlcaaDoor
