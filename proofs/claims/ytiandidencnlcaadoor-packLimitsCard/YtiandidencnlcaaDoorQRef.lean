/- One encoder in use: what each call needs and leaves, in one word. -/
import Derived.Test.YtiandidencnlcaaDoorQFace
import Derived.Test.YtiandidencnlcaaDoorQEnc
import Derived.Test.YtiandidencnlcaaDoorLSTotal
import Derived.Test.YtiandidencnlcaaDoorLStr
import Derived.Test.YtiandidencnlcaaDoorHEnc
import Derived.Test.YtiandidencnlcaaDoorSFind
import Derived.Test.YtiandidencnlcaaDoorLRowF
namespace Go.Proofs.YtiandidencnlcaaDoor
open Go.RowKit

/-- Since w an encoder was made at p, out of new blocks; X: blocks that are not its own. -/
def HasQ (w : World) (X : Nat → Prop) (p t : Nat) (s : EncS) (wr : World) : Prop := ∃ S, QE wr S p t s ∧ (∀ x, S x → w.heap.size ≤ x) ∧ (∀ x, X x → x < wr.heap.size ∧ ¬ S x) ∧ Below w.heap.size w wr
section
variable {w wr w' : World} {X : Nat → Prop} {p t : Nat} {s : EncS}
theorem HasQ.below (h : HasQ w X p t s wr) : Below w.heap.size w wr := by
  obtain ⟨_, _, _, _, h⟩ := h
  exact h
theorem HasQ.quiet (h : HasQ w X p t s wr) (hb : Below wr.heap.size wr w') : HasQ w X p t s w' := by
  obtain ⟨S, h1, h2, h3, h4⟩ := h
  exact ⟨S, h1.quiet hb, h2, fun x hx => ⟨Nat.lt_of_lt_of_le (h3 x hx).1 hb.size, (h3 x hx).2⟩, h4.trans (hb.mono h4.size)⟩
theorem HasQ.more (h : HasQ w X p t s wr) (hb : Below wr.heap.size wr w') : HasQ w (fun x => X x ∨ (wr.heap.size ≤ x ∧ x < w'.heap.size)) p t s w' := by
  obtain ⟨S, h1, h2, h3, h4⟩ := h
  refine ⟨S, h1.quiet hb, h2, fun x hx => ?_, h4.trans (hb.mono h4.size)⟩
  rcases hx with hx | ⟨h5, h6⟩
  · exact ⟨Nat.lt_of_lt_of_le (h3 x hx).1 hb.size, (h3 x hx).2⟩
  · exact ⟨h6, fun hs => by have := h1.low x hs; omega⟩
theorem HasQ.less {X' : Nat → Prop} (h : HasQ w X p t s wr) (hX : ∀ x, X' x → X x) : HasQ w X' p t s wr := by
  obtain ⟨S, h1, h2, h3, h4⟩ := h
  exact ⟨S, h1, h2, fun x hx => h3 x (hX x hx), h4⟩
/-- A block that is not its own is written. -/
theorem HasQ.touch {g : Nat} (h : HasQ w X p t s wr) (hk : Keeps (fun x => x = g) wr w') (hg : X g) (hgw : w.heap.size ≤ g) : HasQ w X p t s w' := by
  obtain ⟨S, h1, h2, h3, h4⟩ := h
  exact ⟨S, h1.keep hk (fun x hx e => (h3 g hg).2 (e ▸ hx)), h2, fun x hx => ⟨Nat.lt_of_lt_of_le (h3 x hx).1 hk.size, (h3 x hx).2⟩, h4.trans (hk.below (fun k e => e ▸ hgw) h4.size)⟩
theorem HasQ.new (hR : Rdy wr) (hw : Below w.heap.size w wr) : Calls Tryd.prog 9 #[] wr fun e w' => ∃ p t, e = .returned (.pointer (some ⟨p, 0, none⟩)) ∧ HasQ w (fun x => x < wr.heap.size) p t EncS.new w' ∧ Below wr.heap.size wr w' := by
  refine (qnew_f wr hR).mono ?_
  rintro e w1 ⟨p, t, S, rfl, hU, hS, hb⟩
  exact ⟨p, t, rfl, ⟨S, hU, fun x hx => Nat.le_trans hw.size (hS x hx), fun x hx => ⟨Nat.lt_of_lt_of_le hx hb.size, fun hs => by have := hS x hs; omega⟩, hw.trans (hb.mono hw.size)⟩, hb⟩
theorem HasQ.peer (h : HasQ w X p t s wr) (hR : Rdy wr) (n : Int) (hn : Rng n) : Calls Tryd.prog 12 #[.pointer (some ⟨p, 0, none⟩), .int .i64 n] wr fun e w' => e = .returned (.tuple #[]) ∧ HasQ w X p t (s.peer n) w' ∧ wr.heap.size ≤ w'.heap.size ∧ (∀ x, X x → w'.heap[x]? = wr.heap[x]?) := by
  obtain ⟨S, h1, h2, h3, h4⟩ := h
  refine (qpeer_f n wr hR S p t s h1 hn).mono ?_
  rintro e w1 ⟨rfl, S', hU, hS', hK⟩
  refine ⟨rfl, ⟨S', hU, fun x hx => ?_, fun x hx => ⟨Nat.lt_of_lt_of_le (h3 x hx).1 hK.size, fun hs => ?_⟩, h4.trans (hK.below h2 h4.size)⟩, hK.size, fun x hx => hK.block x (h3 x hx).1 (h3 x hx).2⟩
  · rcases hS' x hx with h | h
    · exact h2 x h
    · exact Nat.le_trans h4.size h
  · rcases hS' x hs with h | h
    · exact (h3 x hx).2 h
    · have := (h3 x hx).1
      omega
/-- What a block hands back beside the encoder. -/
structure OutQ (wr : World) (X : Nat → Prop) (A : Option Addr) (c : Nat) (out : List Nat) (w' : World) : Prop where
  at' : At .u8 w' w'.heap.size A out
  nil : A = none → c = 0
  cap : out.length ≤ c
  size : wr.heap.size ≤ w'.heap.size
  kept : ∀ x, X x → w'.heap[x]? = wr.heap[x]?
  fresh : ∀ b o s, A = some ⟨b, o, s⟩ → wr.heap.size ≤ b
theorem HasQ.enc (h : HasQ w X p t s wr) (hR : Rdy wr) (A : Option Addr) (l : List Fld) (n c : Nat) (hA : AtF wr wr.heap.size A l) (hl : l.length = n) (hA0 : A = none → c = 0) (hnc : n ≤ c) (hAX : l ≠ [] → ∀ a, A = some a → X a.block) (ht : tot l ≤ 100000) :
    Calls Tryd.prog 14 #[.pointer (some ⟨p, 0, none⟩), .slice A n c] wr fun e w' => ∃ A2 c2, e = .returned (.tuple #[.slice A2 (s.enc l).1.length c2, .int .i64 (((s.enc l).2.1 : Nat) : Int)]) ∧ HasQ w (fun x => X x ∨ (x < w'.heap.size ∧ ∃ o s, A2 = some ⟨x, o, s⟩)) p t (s.enc l).2.2 w' ∧ OutQ wr X A2 c2 (s.enc l).1 w' := by
  obtain ⟨S, h1, h2, h3, h4⟩ := h
  refine (qenc_f A l n c wr hR S p t s h1 hA hl hA0 hnc (fun hne a ha => (h3 _ (hAX hne a ha)).2) ht).mono ?_
  rintro e w1 ⟨S', A2, c2, rfl, hU, hS', hK, hat, hA2, hlc, hnew⟩
  refine ⟨A2, c2, rfl, ⟨S', hU, fun x hx => ?_, fun x hx => ?_, h4.trans (hK.below h2 h4.size)⟩, ⟨hat, hA2, hlc, hK.size, fun x hx => hK.block x (h3 x hx).1 (h3 x hx).2, fun b o s e => (hnew b o s e).1⟩⟩
  · rcases hS' x hx with h | h
    · exact h2 x h
    · exact Nat.le_trans h4.size h
  · rcases hx with hx | ⟨hlt, o, s, rfl⟩
    · refine ⟨Nat.lt_of_lt_of_le (h3 x hx).1 hK.size, fun hs => ?_⟩
      rcases hS' x hs with h | h
      · exact (h3 x hx).2 h
      · have := (h3 x hx).1
        omega
    · exact ⟨hlt, (hnew x o s rfl).2⟩
theorem HasQ.table (h : HasQ w X p t s wr) (hR : Rdy wr) : Calls Tryd.prog 18 #[.pointer (some ⟨p, 0, none⟩)] wr fun e w' => e = .returned (.pointer (some ⟨t, 0, none⟩)) ∧ HasQ w X p t s w' ∧ Below wr.heap.size wr w' := by
  obtain ⟨S, h1, _⟩ := id h
  refine (qtab_f wr hR S p t s h1).mono ?_
  rintro e w1 ⟨rfl, hb⟩
  exact ⟨rfl, h.quiet hb, hb⟩
theorem HasQ.len (h : HasQ w X p t s wr) (hR : Rdy wr) : Calls Tryd.prog 23 #[.pointer (some ⟨t, 0, none⟩)] wr (NumPost wr s.tab.length) := by
  obtain ⟨S, h1, _⟩ := h
  obtain ⟨S2, hT⟩ := h1.dt
  exact dlen_f wr S2 t s.most s.tab hR hT
theorem HasQ.most (h : HasQ w X p t s wr) (hR : Rdy wr) : Calls Tryd.prog 24 #[.pointer (some ⟨t, 0, none⟩)] wr (NumPost wr s.most) := by
  obtain ⟨S, h1, _⟩ := h
  obtain ⟨S2, hT⟩ := h1.dt
  exact dmost_f wr S2 t s.most s.tab hR hT
end
end Go.Proofs.YtiandidencnlcaaDoor
/- The document's own encoder in memory; contracts of put, NewEnc, Peer. -/
namespace Go.Proofs.YtiandidencnlcaaDoor
open Go.RowKit

set_option maxRecDepth 100000 in
set_option maxHeartbeats 4000000 in
theorem rqput_any (s : ByteArray) (w : World) (hs : s.size ≤ 16384) : Calls Tryd.prog 56 #[.string s] w (RowPost w.heap.size w (pstr (nums s))) := by
  have hc := run_conv w s
  have hb1 := conv_below w s
  have hat := conv_at w s
  have hcp := conv_cap w s
  obtain ⟨w1, hw1⟩ : ∃ w1, w1 = Lib.bytesWorld w 5 s := ⟨_, rfl⟩
  obtain ⟨c1, hc1⟩ : ∃ c, c = grownCap w s.size 0 5 := ⟨_, rfl⟩
  obtain ⟨n, hn⟩ : ∃ n, n = s.size := ⟨_, rfl⟩
  obtain ⟨g, hg⟩ : ∃ g, g = w.heap.size := ⟨_, rfl⟩
  rw [← hw1] at hc hb1 hat
  rw [← hc1, ← hn, ← hg] at hc
  rw [← hg] at hat
  rw [← hn] at hs
  rw [← hc1, ← hn] at hcp
  have HL : Hid ((nums s).length = n) := Lib.hid (by rw [nums_len, hn])
  obtain ⟨l, hl⟩ : ∃ l, l = nums s := ⟨_, rfl⟩
  have HB : Hid (∀ x ∈ l, x < 256) := Lib.hid (by rw [hl]; exact nums_lt s)
  rw [← hl] at hat HL ⊢
  have HA := Lib.hid hat
  have HB1 := Lib.hid hb1
  have hr := rbits_any (some ⟨g, 0, none⟩) l n c1 w1 hat HB.out HL.out (by omega)
  have hnb := nBits_le l
  rw [HL.out] at hnb
  obtain ⟨N, hN⟩ : ∃ N, N = Hf.nBits l := ⟨_, rfl⟩
  rw [← hN] at hr hnb
  have HRB := Lib.hid hr
  obtain ⟨m, hm⟩ : ∃ m, m = (N + 7) / 8 := ⟨_, rfl⟩
  have em : ((N : Int) + 7) / 8 = (m : Int) := by omega
  have HP : Hid (pstr l = if m < n then Pn.put 128 7 m ++ Hf.enc l else Pn.put 0 7 n ++ l) := Lib.hid (by rw [pstr, HL.out, ← hN, ← hm])
  have hm9 : m ≤ 61441 := by omega
  have HE : Hid ((Hf.enc l).length = m) := Lib.hid (by rw [Hf.enc_len, hm, hN])
  clear hw1 hc1 hn hg hl hat hb1 hr hN hm
  have HPUT := Lib.hid fun (h k : Nat) (hh : h < 256) (hk : k ≤ 2147483647) (W : World) => rput_row h 7 k W hh (by omega) (by omega) hk
  by_cases hlt : m < n
  · have lt' : (m : Int) < (n : Int) := by omega
    have hp := HPUT.out 128 m (by omega) (by omega)
    rw [show ((128 : Nat) : Int) = 128 from rfl, show ((7 : Nat) : Int) = 7 from rfl] at hp
    obtain ⟨P, hP⟩ : ∃ P, P = Pn.put 128 7 m := ⟨_, rfl⟩
    have HP2 : Hid (pstr l = P ++ Hf.enc l) := Lib.hid (by rw [HP.out, if_pos hlt, hP])
    have hPl : P.length ≤ 6 := by rw [hP]; exact Pn.put_six 128 7 m (by omega)
    have hPp : 1 ≤ P.length := by rw [hP]; exact Pn.put_pos 128 7 m
    rw [← hP] at hp
    have HPT := Lib.hid hp
    clear HP hP hp HPUT
    go_enter Tryd.func56, Tryd.ntmps56
    go_wp2_with fail
    with_reducible refine (HRB.out).mono ?_
    rintro e w2 ⟨rfl, hb2⟩
    have HB2 := Lib.hid hb2
    clear hc hb2 HRB
    go_wp2_with fail
    with_reducible refine (HPT.out w2).mono ?_
    rintro e w3 ⟨v3, rfl, hr3⟩
    obtain ⟨g3, c3, rfl, hg3, _⟩ := own_form hr3.1 (by omega)
    have HB3 : Hid (Below w1.heap.size w1 w3) := Lib.hid (HB2.out.trans (hr3.2.mono HB2.out.size))
    have HR3 := Lib.hid hr3
    clear hr3 HPT
    go_wp2_with fail
    with_reducible refine (renc_any (some ⟨g, 0, none⟩) l n c1 w3 (HA.out.up HB3.out) HB.out HL.out (by omega)).mono ?_
    rintro e w4 ⟨v4, rfl, hr4⟩
    obtain ⟨A4, c4, rfl, hat4, hn4, hc4⟩ := hr4.at
    have HO4 := Lib.hid (own_keep HR3.out.1 hr4.2)
    have HB4 : Hid (Below w2.heap.size w2 w4) := Lib.hid (HR3.out.2.trans (hr4.2.mono HR3.out.2.size))
    have HAT4 := Lib.hid hat4
    clear hr4 hat4 HB3 HR3
    go_wp2_with (at_builtin; refine wpList_append_at rfl (.tmp 24) (.tmp 26) rfl w2.heap.size _ P rfl HO4.out A4 (Hf.enc l) _ c4 rfl rfl hn4 _ HAT4.out (by have := HE.out; omega) (HB4.out.size) ?_; intro v5 w5 hown5 hg5; have HO5 := Lib.hid hown5; have HB5 : Hid (Below w2.heap.size w2 w5) := Lib.hid (HB4.out.grown hg5 HB4.out.size (own_block HO4.out)); obtain ⟨A5, c5, rfl⟩ := own_shape hown5; clear hown5 hg5)
    go_ret
    have hb2 := HB1.out.trans (HB2.out.mono HB1.out.size)
    rw [HP2.out]
    refine ⟨_, rfl, ?_, hb2.trans (HB5.out.mono hb2.size)⟩
    have h9 := own_more HO5.out hb2.size
    rw [List.length_append] at h9 ⊢
    exact h9
  · have lt' : ¬ (m : Int) < (n : Int) := by omega
    have hp := HPUT.out 0 n (by omega) (by omega)
    rw [show ((0 : Nat) : Int) = 0 from rfl, show ((7 : Nat) : Int) = 7 from rfl] at hp
    obtain ⟨P, hP⟩ : ∃ P, P = Pn.put 0 7 n := ⟨_, rfl⟩
    have HP2 : Hid (pstr l = P ++ l) := Lib.hid (by rw [HP.out, if_neg hlt, hP])
    have hPl : P.length ≤ 6 := by rw [hP]; exact Pn.put_six 0 7 n (by omega)
    have hPp : 1 ≤ P.length := by rw [hP]; exact Pn.put_pos 0 7 n
    rw [← hP] at hp
    have HPT := Lib.hid hp
    clear HP hP hp HPUT
    go_enter Tryd.func56, Tryd.ntmps56
    go_wp2_with fail
    with_reducible refine (HRB.out).mono ?_
    rintro e w2 ⟨rfl, hb2⟩
    have HB2 := Lib.hid hb2
    clear hc hb2 HRB
    go_wp2_with fail
    with_reducible refine (HPT.out w2).mono ?_
    rintro e w3 ⟨v3, rfl, hr3⟩
    obtain ⟨g3, c3, rfl, hg3, _⟩ := own_form hr3.1 (by omega)
    have HB3 : Hid (Below w1.heap.size w1 w3) := Lib.hid (HB2.out.trans (hr3.2.mono HB2.out.size))
    have HR3 := Lib.hid hr3
    clear hr3 HPT
    have HB4 := Lib.hid HR3.out.2
    have HAT4 := Lib.hid (HA.out.up HB3.out)
    clear HB3
    go_wp2_with (at_builtin; refine wpList_append_at rfl (.tmp 34) (.tmp 35) rfl w2.heap.size _ P rfl HR3.out.1 (some ⟨g, 0, none⟩) l _ c1 HL.out rfl (fun h => by cases h) _ HAT4.out (by have := HL.out; omega) (HB4.out.size) ?_; intro v5 w5 hown5 hg5; have HO5 := Lib.hid hown5; have HB5 : Hid (Below w2.heap.size w2 w5) := Lib.hid (HB4.out.grown hg5 HB4.out.size (own_block HR3.out.1)); obtain ⟨A5, c5, rfl⟩ := own_shape hown5; clear hown5 hg5)
    go_ret
    have hb2 := HB1.out.trans (HB2.out.mono HB1.out.size)
    rw [HP2.out]
    refine ⟨_, rfl, ?_, hb2.trans (HB5.out.mono hb2.size)⟩
    have h9 := own_more HO5.out hb2.size
    rw [List.length_append] at h9 ⊢
    exact h9
/-- The document's encoder lies at block p, its table at q; S: the blocks that are its own. -/
def RE (w : World) (S : Nat → Prop) (p q : Nat) (s : EncS) : Prop :=
  ∃ S1, w.heap[p]? = some (.cells #[.pointer (some ⟨q, 0, none⟩), .int .i64 (s.told : Int), .int .i64 (s.least : Int), .bool s.set] 44 (0, 0)) ∧ RT w S1 q s.most s.tab ∧ ¬ S1 p ∧ (∀ x, S x ↔ x = p ∨ S1 x) ∧ (tot s.tab ≤ s.most ∧ s.most ≤ 4096 ∧ s.told ≤ 4096 ∧ s.least ≤ 4096)
section
variable {w w' : World} {S S' : Nat → Prop} {p q : Nat} {s : EncS}
theorem lt_of_heap' {w : World} {k : Nat} {o : Obj} (h : w.heap[k]? = some o) : k < w.heap.size := by
  rcases Nat.lt_or_ge k w.heap.size with hlt | hge
  · exact hlt
  · rw [Array.getElem?_eq_none hge] at h; cases h
theorem RE.lt (h : RE w S p q s) : p < w.heap.size := by
  obtain ⟨S1, hh, _⟩ := h
  exact lt_of_heap' hh
theorem RE.own (h : RE w S p q s) : S p := by
  obtain ⟨S1, _, _, _, hS, _⟩ := h
  exact (hS p).2 (.inl rfl)
theorem RE.low (h : RE w S p q s) : ∀ x, S x → x < w.heap.size := by
  obtain ⟨S1, hh, hT, hn, hS, _⟩ := h
  intro x hx
  rcases (hS x).1 hx with rfl | h
  · exact lt_of_heap' hh
  · exact hT.low x h
theorem RE.keep (h : RE w S p q s) (hk : Keeps S' w w') (hd : ∀ x, S x → ¬ S' x) : RE w' S p q s := by
  have hp := h.lt
  obtain ⟨S1, hh, hT, hn, hS, hb⟩ := h
  exact ⟨S1, (hk.block p hp (hd p ((hS p).2 (.inl rfl)))).trans hh, hT.keep hk (fun x hx => hd x ((hS x).2 (.inr hx))), hn, hS, hb⟩
theorem RE.quiet (h : RE w S p q s) (hb : Below w.heap.size w w') : RE w' S p q s := h.keep (S' := fun _ => False) (Keeps.of_below hb) (fun _ _ h => h)
theorem RE.c0 (h : RE w S p q s) : w.cell? ⟨p, 0, none⟩ = some (.pointer (some ⟨q, 0, none⟩)) := by
  obtain ⟨S1, hh, _⟩ := h
  exact cell_of_row _ p 0 _ 44 _ hh
theorem RE.c1 (h : RE w S p q s) : w.cell? ⟨p, 1, none⟩ = some (.int .i64 (s.told : Int)) := by
  obtain ⟨S1, hh, _⟩ := h
  exact cell_of_row _ p 1 _ 44 _ hh
theorem RE.c2 (h : RE w S p q s) : w.cell? ⟨p, 2, none⟩ = some (.int .i64 (s.least : Int)) := by
  obtain ⟨S1, hh, _⟩ := h
  exact cell_of_row _ p 2 _ 44 _ hh
theorem RE.c3 (h : RE w S p q s) : w.cell? ⟨p, 3, none⟩ = some (.bool s.set) := by
  obtain ⟨S1, hh, _⟩ := h
  exact cell_of_row _ p 3 _ 44 _ hh
theorem RE.fz (h : RE w S p q s) (i : Nat) : w.frozen? ⟨p, i, none⟩ = false := by
  obtain ⟨S1, hh, _⟩ := h
  exact frozen_of_row w p i _ 44 hh
theorem RE.m0 (h : RE w S p q s) : w.cell? ⟨q, 0, none⟩ = some (.int .i64 (s.most : Int)) := by
  obtain ⟨S1, _, ⟨⟨A, c, hh, _⟩, _⟩, _⟩ := h
  exact cell_of_row _ q 0 _ 70 _ hh
theorem RE.bounds (h : RE w S p q s) : tot s.tab ≤ s.most ∧ s.most ≤ 4096 ∧ s.told ≤ 4096 ∧ s.least ≤ 4096 := by
  obtain ⟨S1, _, _, _, _, hb⟩ := h
  exact hb
/-- One of its cells is set. -/
theorem RE.set1 (h : RE w S p q s) (k : Nat) (hk : k ≤ 4096) : RE (w.setCell ⟨p, 1, none⟩ (.int .i64 (k : Int))) S p q ⟨s.most, s.tab, k, s.least, s.set⟩ ∧ Keeps S w (w.setCell ⟨p, 1, none⟩ (.int .i64 (k : Int))) := by
  have ho := h.own
  obtain ⟨S1, hh, hT, hn, hS, hb⟩ := h
  have hkp : Keeps (fun x => x = p) w (w.setCell ⟨p, 1, none⟩ (.int .i64 (k : Int))) := (Keeps.refl (fun x => x = p) w).setCell (S := fun x => x = p) (p := ⟨p, 1, none⟩) rfl _
  refine ⟨⟨S1, by have := heap_setCell_same w p 1 _ 44 (.int .i64 (k : Int)) hh; simpa using this, hT.keep hkp (fun x hx e => hn (e ▸ hx)), hn, hS, hb.1, hb.2.1, hk, hb.2.2.2⟩, hkp.mono (fun x _ hx => by subst hx; exact ho)⟩
theorem RE.set2 (h : RE w S p q s) (k : Nat) (hk : k ≤ 4096) : RE (w.setCell ⟨p, 2, none⟩ (.int .i64 (k : Int))) S p q ⟨s.most, s.tab, s.told, k, s.set⟩ ∧ Keeps S w (w.setCell ⟨p, 2, none⟩ (.int .i64 (k : Int))) := by
  have ho := h.own
  obtain ⟨S1, hh, hT, hn, hS, hb⟩ := h
  have hkp : Keeps (fun x => x = p) w (w.setCell ⟨p, 2, none⟩ (.int .i64 (k : Int))) := (Keeps.refl (fun x => x = p) w).setCell (S := fun x => x = p) (p := ⟨p, 2, none⟩) rfl _
  refine ⟨⟨S1, by have := heap_setCell_same w p 2 _ 44 (.int .i64 (k : Int)) hh; simpa using this, hT.keep hkp (fun x hx e => hn (e ▸ hx)), hn, hS, hb.1, hb.2.1, hb.2.2.1, hk⟩, hkp.mono (fun x _ hx => by subst hx; exact ho)⟩
theorem RE.set3 (h : RE w S p q s) (b : Bool) : RE (w.setCell ⟨p, 3, none⟩ (.bool b)) S p q ⟨s.most, s.tab, s.told, s.least, b⟩ ∧ Keeps S w (w.setCell ⟨p, 3, none⟩ (.bool b)) := by
  have ho := h.own
  obtain ⟨S1, hh, hT, hn, hS, hb⟩ := h
  have hkp : Keeps (fun x => x = p) w (w.setCell ⟨p, 3, none⟩ (.bool b)) := (Keeps.refl (fun x => x = p) w).setCell (S := fun x => x = p) (p := ⟨p, 3, none⟩) rfl _
  refine ⟨⟨S1, by have := heap_setCell_same w p 3 _ 44 (.bool b) hh; simpa using this, hT.keep hkp (fun x hx e => hn (e ▸ hx)), hn, hS, hb⟩, hkp.mono (fun x _ hx => by subst hx; exact ho)⟩
end
/-- What a method of the document's encoder leaves. -/
def REPost (S : Nat → Prop) (w : World) (p q : Nat) (s : EncS) (w' : World) : Prop := ∃ S', RE w' S' p q s ∧ (∀ x, S' x → S x ∨ w.heap.size ≤ x) ∧ Keeps S w w'
theorem REPost.then {S S1 : Nat → Prop} {w w1 w2 : World} {p q : Nat} {s : EncS} (hS : ∀ x, S1 x → S x ∨ w.heap.size ≤ x) (hK : Keeps S w w1) (h : REPost S1 w1 p q s w2) : REPost S w p q s w2 := by
  obtain ⟨S2, hT, hS2, hK2⟩ := h
  refine ⟨S2, hT, fun x hx => ?_, hK.trans hK2 (fun x hx hlt => ?_)⟩
  · rcases hS2 x hx with h1 | h1
    · exact hS x h1
    · exact .inr (Nat.le_trans hK.size h1)
  · rcases hS x hx with h1 | h1
    · exact h1
    · omega
/-- Out of what its table's method leaves. -/
theorem RE.table {w : World} {S : Nat → Prop} {p q : Nat} {s : EncS} (h : RE w S p q s) : ∃ S1, RT w S1 q s.most s.tab ∧ (∀ x, S1 x → S x) ∧ ∀ (w' : World) (m : Nat) (l : List Fld), TPost S1 w q m l w' → tot l ≤ m → m ≤ 4096 → REPost S w p q ⟨m, l, s.told, s.least, s.set⟩ w' := by
  have hp := h.lt
  obtain ⟨S1, hh, hT, hn, hS, hb⟩ := h
  refine ⟨S1, hT, fun x hx => (hS x).2 (.inr hx), fun w' m l hP h1 h2 => ?_⟩
  obtain ⟨S2, hT2, hS2, hK2⟩ := hP
  refine ⟨fun x => x = p ∨ S2 x, ⟨S2, (hK2.block p hp hn).trans hh, hT2, fun hx => ?_, fun x => Iff.rfl, h1, h2, hb.2.2⟩, fun x hx => ?_, hK2.mono (fun x _ hx => (hS x).2 (.inr hx))⟩
  · rcases hS2 p hx with h3 | h3
    · exact hn h3
    · omega
  · rcases hx with rfl | hx
    · exact .inl ((hS _).2 (.inl rfl))
    · rcases hS2 x hx with h3 | h3
      · exact .inl ((hS x).2 (.inr h3))
      · exact .inr h3
set_option maxRecDepth 100000 in
theorem rqnew_any (w : World) : Calls Tryd.prog 10 #[] w fun e w' => ∃ p q S, e = .returned (.pointer (some ⟨p, 0, none⟩)) ∧ RE w' S p q EncS.new ∧ (∀ x, S x → w.heap.size ≤ x) ∧ Below w.heap.size w w' := by
  have hN := rnew_ok 4096 w (Nat.le_refl _)
  have hT0 := rt_new w 4096
  rw [show ((4096 : Nat) : Int) = 4096 from rfl] at hN hT0
  have HN := Lib.hid hN
  clear hN
  go_enter Tryd.func10, Tryd.ntmps10
  go_wp2_with fail
  with_reducible refine (HN.out).mono ?_
  rintro e w1 ⟨rfl, hw1⟩
  rw [← hw1] at hT0
  have hb1 : Below w.heap.size w w1 := by rw [hw1]; exact (Below.refl _ _).alloc (Nat.le_refl _) _
  obtain ⟨q, hq⟩ : ∃ q, q = w.heap.size := ⟨_, rfl⟩
  rw [← hq] at hT0 ⊢
  have HQ := Lib.hid hq
  have HT := Lib.hid hT0
  have HB := Lib.hid hb1
  clear hq hw1 hT0 hb1 HN
  go_wp2
  go_ret
  have hb2 : Below w1.heap.size w1 (w1.alloc (.cells #[.pointer (some ⟨q, 0, none⟩), .int .i64 4096, .int .i64 0, .bool false] 44)) := (Below.refl _ _).alloc (Nat.le_refl _) _
  refine ⟨w1.heap.size, q, fun x => x = w1.heap.size ∨ x = q, rfl, ⟨fun x => x = q, heap_alloc_new w1 _, HT.out.keep (S' := fun _ => False) (Keeps.of_below hb2) (fun _ _ h => h), fun h => ?_, fun x => Iff.rfl, by simp [EncS.new, tot], by simp [EncS.new], by simp [EncS.new], by simp [EncS.new]⟩, fun x hx => ?_, HB.out.trans (hb2.mono HB.out.size)⟩
  · have := HT.out.low q rfl
    omega
  · have := HQ.out
    have := HB.out.size
    omega
end Go.Proofs.YtiandidencnlcaaDoor
