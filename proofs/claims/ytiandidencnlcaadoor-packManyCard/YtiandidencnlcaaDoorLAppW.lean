/- The landed encoder's limits. -/
import Derived.Test.YtiandidencnlcaaDoorHAux
import Derived.Test.YtiandidencnlcaaDoorQLField
import Derived.Test.YtiandidencnlcaaDoorLPost
import Derived.Test.YtiandidencnlcaaDoorPGetD
import Derived.Test.YtiandidencnlcaaDoorLMem
import Derived.Test.YtiandidencnlcaaDoorLDAdd
namespace Go.Proofs.YtiandidencnlcaaDoor
open Go.RowKit

/-- What limits hands back: a row of its own; what was to be told has been told. -/
def QMPost (S : Nat → Prop) (w : World) (p t : Nat) (s : EncS) (e : Ending) (w' : World) : Prop :=
  ∃ v, e = .returned v ∧ w'.ownsRow w.heap.size 5 1 v s.lims.length (cn .u8 s.lims) ∧ QE w' S p t ⟨s.most, s.tab, s.most, s.least, false⟩ ∧ Keeps S w w'
theorem own_nil' (w : World) (B : Nat) : w.ownsRow B 5 1 (.slice none 0 0) ([] : List Nat).length (cn .u8 []) := World.ownsRow_nil _ _ _ _
/-- The limits that are to be told, by the least as the program has it. -/
theorem lims_by (s : EncS) (L : Nat) (h1 : s.set = true → L = s.least) (h2 : s.set = false → L = 4096 ∧ s.most = s.told) (hm : s.most ≤ 4096) : s.lims = if L < s.most then Pn.put 32 5 L ++ Pn.put 32 5 s.most else if s.most ≠ s.told then Pn.put 32 5 s.most else [] := by
  unfold EncS.lims
  cases hs : s.set with
  | true => rw [h1 hs]; rfl
  | false =>
    obtain ⟨e1, e2⟩ := h2 hs
    rw [if_neg (by simp), if_neg (by omega), if_neg (by simp [e2])]
set_option maxRecDepth 100000 in
set_option maxHeartbeats 4000000 in
theorem qlims_f (w : World) (hR : Rdy w) (S : Nat → Prop) (p t : Nat) (s : EncS) (h : QE w S p t s) : Calls Tryd.prog 35 #[.pointer (some ⟨p, 0, none⟩)] w (QMPost S w p t s) := by
  obtain ⟨M, T, tl, ls, st⟩ := s
  have hfit := h.fits
  obtain ⟨S1, L, hh, hT, hn, hS, hb1, hb2, hb3, hb4, hF⟩ := id h
  simp only [] at hh hT hb1 hb3 hb4 hfit
  have hM : M ≤ 4096 := hfit.2
  have HLM := Lib.hid (lims_by ⟨M, T, tl, ls, st⟩ L hb3 hb4 hM)
  have hp := lt_of_heap hh
  have x0 : w.cell? ⟨p, 0, none⟩ = some (.pointer (some ⟨t, 0, none⟩)) := cell_of_row _ p 0 _ 61 _ hh
  have HMO := Lib.hid (dmost_f w S1 t M T hR hT)
  -- behind any quiet call
  have HC : Hid (∀ W, Below w.heap.size w W → W.cell? ⟨p, 1, none⟩ = some (.int .i64 (tl : Int)) ∧ W.cell? ⟨p, 2, none⟩ = some (.int .i64 (L : Int)) ∧ W.frozen? ⟨p, 1, none⟩ = false) := Lib.hid (fun W hb => by
    have hW := (hb.block p hp).trans hh
    exact ⟨cell_of_row _ p 1 _ 61 _ hW, cell_of_row _ p 2 _ 61 _ hW, frozen_of_row W p 1 _ 61 hW⟩)
  have HEND : Hid (∀ W (v : Value), Below w.heap.size w W → W.ownsRow w.heap.size 5 1 v (EncS.lims ⟨M, T, tl, ls, st⟩).length (cn .u8 (EncS.lims ⟨M, T, tl, ls, st⟩)) → (W.setCell ⟨p, 1, none⟩ (.int .i64 (M : Int))).frozen? ⟨p, 2, none⟩ = false ∧ QMPost S w p t ⟨M, T, tl, ls, st⟩ (.returned v) ((W.setCell ⟨p, 1, none⟩ (.int .i64 (M : Int))).setCell ⟨p, 2, none⟩ (.int .i64 4096))) := Lib.hid (fun W v hb ho => by
    have hW := (hb.block p hp).trans hh
    have hW1 : (W.setCell ⟨p, 1, none⟩ (.int .i64 (M : Int))).heap[p]? = some (.cells #[.pointer (some ⟨t, 0, none⟩), .int .i64 (M : Int), .int .i64 (L : Int)] 61 (0, 0)) := by
      have := heap_setCell_same W p 1 _ 61 (.int .i64 (M : Int)) hW
      simpa using this
    have hW2 : ((W.setCell ⟨p, 1, none⟩ (.int .i64 (M : Int))).setCell ⟨p, 2, none⟩ (.int .i64 4096)).heap[p]? = some (.cells #[.pointer (some ⟨t, 0, none⟩), .int .i64 (M : Int), .int .i64 4096] 61 (0, 0)) := by
      have := heap_setCell_same _ p 2 _ 61 (.int .i64 4096) hW1
      simpa using this
    have hK : Keeps (fun x => x = p) W ((W.setCell ⟨p, 1, none⟩ (.int .i64 (M : Int))).setCell ⟨p, 2, none⟩ (.int .i64 4096)) := ((Keeps.refl (fun x => x = p) W).setCell (S := fun x => x = p) (p := ⟨p, 1, none⟩) rfl _).setCell (S := fun x => x = p) (p := ⟨p, 2, none⟩) rfl _
    refine ⟨frozen_of_row _ p 2 _ 61 hW1, v, rfl, row_keeps ho hK (fun k hk e => ?_), ⟨S1, 4096, hW2, (hT.keep (S' := fun _ => False) (Keeps.of_below hb) (fun _ _ h => h)).keep hK (fun x hx e => hn (e ▸ hx)), hn, hS, hM, Nat.le_refl _, (fun h => by cases h), (fun _ => ⟨rfl, rfl⟩), hF⟩, (Keeps.of_below (S := S) hb).trans hK (fun x hx _ => by subst hx; exact (hS _).2 (.inl rfl))⟩
    have := own_block ho k hk
    omega)
  clear hh hT hn hS hb1 hb3 hb4 hF h hfit hR
  have HM := Lib.hid hM
  by_cases c1 : L < M
  · have q1 : (L : Int) < (M : Int) := by omega
    have HL2 := HLM.out.trans (if_pos c1)
    have hp1 := fun (W : World) => qnum_f 32 5 L W (by omega) (by omega) (by omega) (by omega)
    have hp2 := fun (W : World) => qnum_f 32 5 M W (by omega) (by omega) (by omega) (by omega)
    rw [show ((32 : Nat) : Int) = 32 from rfl, show ((5 : Nat) : Int) = 5 from rfl] at hp1 hp2
    obtain ⟨P1, hP1⟩ : ∃ P, P = Pn.put 32 5 L := ⟨_, rfl⟩
    obtain ⟨P2, hP2⟩ : ∃ P, P = Pn.put 32 5 M := ⟨_, rfl⟩
    have hP1l : P1.length ≤ 6 ∧ 1 ≤ P1.length := by rw [hP1]; exact ⟨Pn.put_six 32 5 L (by omega), Pn.put_pos 32 5 L⟩
    have hP2l : P2.length ≤ 6 := by rw [hP2]; exact Pn.put_six 32 5 M (by omega)
    rw [← hP1] at hp1 HL2
    rw [← hP2] at hp2 HL2
    have HP1 := Lib.hid hp1
    have HP2 := Lib.hid hp2
    have HLE : Hid (EncS.lims ⟨M, T, tl, ls, st⟩ = P1 ++ P2) := Lib.hid HL2
    clear hp1 hp2 hP1 hP2 HL2 HLM c1 hM
    go_enter Tryd.func35, Tryd.ntmps35
    go_wp2_with fail
    with_reducible refine (HMO.out).mono ?_
    rintro e w1 ⟨rfl, hb1⟩
    obtain ⟨y1, y2, f1⟩ := HC.out w1 hb1
    have HB1 := Lib.hid hb1
    clear hb1 HMO x0
    go_wp2_with fail
    with_reducible refine (HP1.out w1).mono ?_
    rintro e w2 ⟨v2, rfl, hr2⟩
    obtain ⟨g2, c2, rfl, hg2, _⟩ := own_form hr2.1 (by omega)
    have hb2 := HB1.out.trans (hr2.2.mono HB1.out.size)
    obtain ⟨z1, z2, f2⟩ := HC.out w2 hb2
    have HO2 := Lib.hid (own_more hr2.1 HB1.out.size)
    have HB2 := Lib.hid hb2
    clear hr2 hb2 y1 y2 f1 HP1 HB1
    go_wp2_with fail
    with_reducible refine (HP2.out w2).mono ?_
    rintro e w3 ⟨v3, rfl, hr3⟩
    obtain ⟨A3, c3, rfl, hat3, hn3, hc3⟩ := hr3.at
    have HO3 := Lib.hid (own_keep HO2.out hr3.2)
    have HB3 := Lib.hid (HB2.out.trans (hr3.2.mono HB2.out.size))
    have HAT3 := Lib.hid hat3
    clear hr3 hat3 z1 z2 f2 HP2 HB2 HO2
    go_wp2_with (at_builtin; refine wpList_append_at rfl (.tmp 35) (.tmp 37) rfl w.heap.size _ P1 rfl HO3.out A3 P2 _ c3 rfl rfl hn3 _ HAT3.out (by omega) (HB3.out.size) ?_; intro v5 w5 hown5 hg5; have hb5 := HB3.out.grown hg5 HB3.out.size (own_block HO3.out); rw [← HLE.out] at hown5; obtain ⟨y1, y2, f1⟩ := HC.out w5 hb5; obtain ⟨f3, hq⟩ := HEND.out w5 v5 hb5 hown5; have HQ5 := Lib.hid hq; obtain ⟨A5, c5, rfl⟩ := own_shape hown5; clear hown5 hg5 hb5 hq)
    go_ret
    exact HQ5.out
  · have q1 : ¬ (L : Int) < (M : Int) := by omega
    have HL2 := HLM.out.trans (if_neg c1)
    by_cases c2 : M = tl
    · have q2 : ((M : Int) != (tl : Int)) = false := by rw [c2]; simp
      have HLE : Hid (EncS.lims ⟨M, T, tl, ls, st⟩ = []) := Lib.hid (HL2.trans (if_neg (by simp [c2])))
      clear HL2 HLM c1 c2 hM
      go_enter Tryd.func35, Tryd.ntmps35
      go_wp2_with fail
      with_reducible refine (HMO.out).mono ?_
      rintro e w1 ⟨rfl, hb1⟩
      obtain ⟨y1, y2, f1⟩ := HC.out w1 hb1
      obtain ⟨f3, hq⟩ := HEND.out w1 (.slice none 0 0) hb1 (by rw [HLE.out]; exact own_nil' _ _)
      have HQ5 := Lib.hid hq
      clear hb1 HMO x0 hq
      go_wp2
      go_ret
      exact HQ5.out
    · have q2 : ((M : Int) != (tl : Int)) = true := by simp; omega
      have HL3 := HL2.trans (if_pos c2)
      have hp2 := fun (W : World) => qnum_f 32 5 M W (by omega) (by omega) (by omega) (by omega)
      rw [show ((32 : Nat) : Int) = 32 from rfl, show ((5 : Nat) : Int) = 5 from rfl] at hp2
      obtain ⟨P2, hP2⟩ : ∃ P, P = Pn.put 32 5 M := ⟨_, rfl⟩
      have hP2l : P2.length ≤ 6 := by rw [hP2]; exact Pn.put_six 32 5 M (by omega)
      rw [← hP2] at hp2 HL3
      have HP2 := Lib.hid hp2
      have HLE : Hid (EncS.lims ⟨M, T, tl, ls, st⟩ = P2) := Lib.hid HL3
      clear hp2 hP2 HL2 HL3 HLM c1 c2 hM
      go_enter Tryd.func35, Tryd.ntmps35
      go_wp2_with fail
      with_reducible refine (HMO.out).mono ?_
      rintro e w1 ⟨rfl, hb1⟩
      obtain ⟨y1, y2, f1⟩ := HC.out w1 hb1
      have HB1 := Lib.hid hb1
      clear hb1 HMO x0
      go_wp2_with fail
      with_reducible refine (HP2.out w1).mono ?_
      rintro e w3 ⟨v3, rfl, hr3⟩
      obtain ⟨A3, c3, rfl, hat3, hn3, hc3⟩ := hr3.at
      have HB3 := Lib.hid (HB1.out.trans (hr3.2.mono HB1.out.size))
      have HAT3 := Lib.hid hat3
      clear hr3 hat3 y1 y2 f1 HP2 HB1
      go_wp2_with (at_builtin; refine wpList_append_at rfl (.tmp 35) (.tmp 37) rfl w.heap.size _ [] rfl (own_nil' _ _) A3 P2 _ c3 rfl rfl hn3 _ HAT3.out (by simp only [List.length_nil]; omega) (HB3.out.size) ?_; intro v5 w5 hown5 hg5; rw [List.nil_append] at hown5; have hb5 := HB3.out.grown hg5 HB3.out.size (own_block (own_nil' w3 w.heap.size)); rw [← HLE.out] at hown5; obtain ⟨y1, y2, f1⟩ := HC.out w5 hb5; obtain ⟨f3, hq⟩ := HEND.out w5 v5 hb5 hown5; have HQ5 := Lib.hid hq; obtain ⟨A5, c5, rfl⟩ := own_shape hown5; clear hown5 hg5 hb5 hq)
      go_ret
      exact HQ5.out
end Go.Proofs.YtiandidencnlcaaDoor
/- The landed encoder: is a name or value of a list too long? -/
namespace Go.Proofs.YtiandidencnlcaaDoor
open Go.RowKit

/-- Has it a name or value that is too long? -/
def over (f : Fld) : Bool := decide (16384 < f.name.size) || decide (16384 < f.value.size)
theorem over_fits {f : Fld} : over f = false ↔ f.fits := by simp [over, Fld.fits]
set_option maxRecDepth 100000 in
theorem qlong_f (f : Fld) (w : World) (hf : fsize f ≤ 1000000) : Calls Tryd.prog 34 #[.agg #[.string f.name, .string f.value, .bool f.never]] w (BoolPost w (over f)) := by
  obtain ⟨F1, F2, F3⟩ := f
  obtain ⟨n1, h1⟩ : ∃ n, F1.size = n := ⟨_, rfl⟩
  obtain ⟨n2, h2⟩ : ∃ n, F2.size = n := ⟨_, rfl⟩
  have hs : n1 ≤ 1000000 ∧ n2 ≤ 1000000 := by unfold fsize at hf; simp only [] at hf; omega
  have HD : Hid (over ⟨F1, F2, F3⟩ = (decide (16384 < n1) || decide (16384 < n2))) := Lib.hid (by simp only [over, h1, h2])
  simp only []
  clear hf
  by_cases c1 : 16384 < n1
  · have d1 : (16384 : Int) < (n1 : Int) := by omega
    have HE : Hid (over ⟨F1, F2, F3⟩ = true) := Lib.hid (by rw [HD.out, decide_eq_true c1]; rfl)
    clear HD c1
    go_enter Tryd.func34, Tryd.ntmps34
    go_wp2
    go_ret
    rw [HE.out]
    exact ⟨rfl, (Below.refl _ _).alloc (Nat.le_refl _) _⟩
  · have d1 : ¬ (16384 : Int) < (n1 : Int) := by omega
    by_cases c2 : 16384 < n2
    · have d2 : (16384 : Int) < (n2 : Int) := by omega
      have HE : Hid (over ⟨F1, F2, F3⟩ = true) := Lib.hid (by rw [HD.out, decide_eq_true c2, Bool.or_true])
      clear HD c1 c2
      go_enter Tryd.func34, Tryd.ntmps34
      go_wp2
      go_ret
      rw [HE.out]
      exact ⟨rfl, (Below.refl _ _).alloc (Nat.le_refl _) _⟩
    · have d2 : ¬ (16384 : Int) < (n2 : Int) := by omega
      have HE : Hid (over ⟨F1, F2, F3⟩ = false) := Lib.hid (by rw [HD.out, decide_eq_false c1, decide_eq_false c2]; rfl)
      clear HD c1 c2
      go_enter Tryd.func34, Tryd.ntmps34
      go_wp2
      go_ret
      rw [HE.out]
      exact ⟨rfl, (Below.refl _ _).alloc (Nat.le_refl _) _⟩
/-- What IndexFunc hands back: 0 or above, if one is found. -/
def IxPost (w : World) (b : Bool) (e : Ending) (w' : World) : Prop := ∃ i : Int, e = .returned (.int .i64 i) ∧ decide (0 ≤ i) = b ∧ Rng i ∧ Below w.heap.size w w'
/-- Behind k fields: none so far. -/
def IxR (w : World) (l : List Fld) (D : Bool) (i : Value) (wr : World) : Prop := ∃ k : Nat, k ≤ l.length ∧ i = .int .i64 (k : Int) ∧ (l.drop k).any over = D ∧ Below w.heap.size w wr
set_option maxRecDepth 100000 in
set_option maxHeartbeats 4000000 in
theorem qindex_f (A : Option Addr) (l : List Fld) (n c : Nat) (w : World) (hA : AtF w w.heap.size A l) (hl : l.length = n) (hn : n ≤ 100000) (ht : tot l ≤ 1000000) : Calls Tryd.prog 49 #[.slice A n c, .func (.func 34) #[] #[]] w (IxPost w (l.any over)) := by
  have HA := Lib.hid hA
  have HL := Lib.hid hl
  have HT := Lib.hid ht
  obtain ⟨D, hD⟩ : ∃ D, D = l.any over := ⟨_, rfl⟩
  rw [← hD]
  have HD := Lib.hid hD
  clear hA hl hD ht
  go_enter Tryd.func49, Tryd.ntmps49
  go_wp2
  go_loopw [8] (fun i wr => IxR w l D i wr) (fun i _ => n - (intOf i).toNat)
  case atStart => exact ⟨0, Nat.zero_le _, rfl, HD.out.symm, Below.refl _ _⟩
  case round =>
    obtain ⟨k, hk, rfl, hsm, hbw⟩ := hrel
    by_cases hlt : k < n
    · have hka : k < l.length := by have := HL.out; omega
      obtain ⟨b1, o1, rfl, hb1, hc1⟩ := HA.out.pos (by omega)
      have hft : fsize l[k] ≤ 1000000 := Nat.le_trans (fsize_le (List.getElem_mem hka)) HT.out
      have HNX : Hid (D = (over l[k] || (l.drop (k + 1)).any over)) := Lib.hid (by rw [← hsm, List.drop_eq_getElem_cons hka, List.any_cons])
      obtain ⟨f, hf⟩ : ∃ f, f = l[k] := ⟨_, rfl⟩
      obtain ⟨c0, c1, c2⟩ := hc1 k hka
      rw [← hf] at c0 c1 c2 hft HNX
      have x0 : wr.cell? ⟨b1, o1 + k * 3, none⟩ = some (.string f.name) := (hbw.cell (p := ⟨b1, o1 + k * 3, none⟩) hb1).trans c0
      have x1 : wr.cell? ⟨b1, o1 + k * 3 + 1, none⟩ = some (.string f.value) := (hbw.cell (p := ⟨b1, o1 + k * 3 + 1, none⟩) hb1).trans c1
      have x2 : wr.cell? ⟨b1, o1 + k * 3 + 2, none⟩ = some (.bool f.never) := (hbw.cell (p := ⟨b1, o1 + k * 3 + 2, none⟩) hb1).trans c2
      have ki : (k : Int) < (n : Int) := by omega
      have hbb := hbw
      have HLG := Lib.hid (qlong_f f wr hft)
      clear hc1 hka hf c0 c1 c2 hsm hbw hb1 hft
      have HBB := Lib.hid hbb
      clear hbb
      go_wp2_with fail
      with_reducible refine (HLG.out).mono ?_
      rintro e w2 ⟨rfl, hb2⟩
      have hb4 := HBB.out.trans (hb2.mono HBB.out.size)
      have HB4 := Lib.hid hb4
      clear hb2 hb4 x0 x1 x2 HLG
      cases hal : over f with
      | true =>
        have HDD : Hid (D = true) := Lib.hid (by rw [HNX.out, hal]; rfl)
        go_wp2
        go_ret
        rw [HDD.out]
        exact ⟨k, rfl, decide_eq_true (by omega), ⟨by omega, by omega⟩, HB4.out⟩
      | false =>
        have HDD : Hid ((l.drop (k + 1)).any over = D) := Lib.hid (by rw [HNX.out, hal]; rfl)
        go_wp2
        go_roundw
        case rel => exact ⟨k + 1, by have := HL.out; omega, by go_num, HDD.out, HB4.out⟩
        case measure => simp [intOf]; omega
    · obtain rfl : k = n := by have := HL.out; omega
      have HDD : Hid (D = false) := Lib.hid (by
        rw [← hsm, List.drop_of_length_le (by have := HL.out; omega)]
        rfl)
      have ki : ¬ (k : Int) < (k : Int) := by omega
      clear hsm
      go_wp2
      go_ret
      rw [HDD.out]
      exact ⟨-1, rfl, decide_eq_false (by omega), ⟨by omega, by omega⟩, hbw⟩
theorem any_over (l : List Fld) : l.any over = !allFit l := by
  induction l with
  | nil => rfl
  | cons f r ih =>
    rw [List.any_cons, ih, allFit, allFit, List.all_cons, Bool.not_and]
    congr 1
    simp only [over, Bool.not_and, ← decide_not, Nat.not_le]
set_option maxRecDepth 100000 in
theorem qhas_f (A : Option Addr) (l : List Fld) (n c : Nat) (w : World) (hA : AtF w w.heap.size A l) (hl : l.length = n) (hn : n ≤ 100000) (ht : tot l ≤ 1000000) : Calls Tryd.prog 33 #[.slice A n c, .func (.func 34) #[] #[]] w (BoolPost w (!allFit l)) := by
  rw [← any_over]
  have HI := Lib.hid (qindex_f A l n c w hA hl hn ht)
  obtain ⟨D, hD⟩ : ∃ D, D = l.any over := ⟨_, rfl⟩
  rw [← hD] at HI ⊢
  clear hA hl hn ht hD
  go_enter Tryd.func33, Tryd.ntmps33
  go_wp2_with fail
  with_reducible refine (HI.out).mono ?_
  rintro e w2 ⟨i, rfl, hi, hr, hb2⟩
  have HB := Lib.hid hb2
  have HII := Lib.hid hi
  clear hb2 HI hi
  go_wp2
  go_ret
  exact ⟨congrArg (fun b => Ending.returned (.bool b)) HII.out, HB.out⟩
end Go.Proofs.YtiandidencnlcaaDoor
/- Bytes appended onto a row of the call's own, and where it lies then. From stage 9 on. -/
namespace Go.Proofs.YtiandidencnlcaaDoor
open Go.RowKit

theorem wpList_append_aw {w : World} {ops : Array Oper} {rest : List Oper} {o : Oper} {a : Act} {Q : Exit → Act → World → Prop} (hgd : o.guard = none) (s x : Operand)
    (ho : o.op = .call { callee := .builtin .append, args := #[s, x], argTypes := #[34, 34] }) (base : Nat)
    (v : Value) (l : List Nat) (hs : a.eval s = v) (hown : w.ownsRow base 5 1 v l.length (cn .u8 l))
    (A : Option Addr) (m : List Nat) (n c : Nat) (hn : m.length = n) (hx : a.eval x = .slice A n c) (hA : A = none → c = 0) (B : Nat) (hm : At .u8 w B A m)
    (hlen : l.length + m.length ≤ 1000000) (hbase : base ≤ w.heap.size)
    (h : ∀ v' w', w'.ownsRow base 5 1 v' (l ++ m).length (cn .u8 (l ++ m)) → w.grownBy w' v.ownBlock → (∀ j, v'.ownBlock = some j → v.ownBlock = some j ∨ w.heap.size ≤ j) → wpList Tryd.prog ops Q rest (a.put o.dst v') w') : wpList Tryd.prog ops Q (o :: rest) a w := by
  obtain ⟨i0, hi0, hz0, hz1, hz2⟩ := info_parts infoU8
  subst hn
  cases A with
  | none =>
    have hc := hA rfl
    subst hc
    have hmn := hm.none_nil
    subst hmn
    refine wpList_append_own_none hgd s x 34 ho base 5 i0 1 Tryd.underlying34 hi0 v l.length (cn .u8 l) hs hown hx ?_
    exact h v w (by simpa using hown) (World.grownBy.refl w _) (fun j hj => .inl hj)
  | some ad =>
    refine wpList_plain hgd fun _ hK => ?_
    obtain ⟨v', w', hr, h2, h3, h4⟩ := run_append_where (P := Tryd.prog) w base 34 o.type 5 i0 _ 1 1 Tryd.underlying34 hi0 hz0 hz1 hz2 rfl (by decide) v l.length (cn .u8 l) hown ad m.length c (cn .u8 m) (by simp [cn]) hm.cells (cn_one _ _) (by unfold maxLen; omega) (by omega) hbase
    unfold Oper.wp execOp
    simp only [ho, resolve, invoke, builtin, Sem.run_bind, Sem.run_pure, Result.andThen_ok, List.map_toArray, List.map_cons, List.map_nil, hs, hx, hr]
    rw [cn_app] at h2
    exact hK _ _ (h v' w' (by simpa using h2) h3 h4)
end Go.Proofs.YtiandidencnlcaaDoor
