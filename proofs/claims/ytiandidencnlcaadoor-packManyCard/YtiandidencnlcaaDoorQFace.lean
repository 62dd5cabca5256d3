/- The faces' contracts of the landed encoder; the laws' texts know these names alone. -/
import Derived.Test.YtiandidencnlcaaDoorQLField
import Derived.Test.YtiandidencnlcaaDoorLAppW
namespace Go.Proofs.YtiandidencnlcaaDoor
open Go.RowKit

set_option maxRecDepth 100000 in
theorem qtab_f (w : World) (_ : Rdy w) (S : Nat → Prop) (p t : Nat) (s : EncS) (hQ : QE w S p t s) : Calls Tryd.prog 18 #[.pointer (some ⟨p, 0, none⟩)] w fun e w' => e = .returned (.pointer (some ⟨t, 0, none⟩)) ∧ Below w.heap.size w w' := by
  have x0 := hQ.c0
  clear hQ
  go_enter Tryd.func18, Tryd.ntmps18
  go_wp2
  go_ret
  exact ⟨rfl, Below.refl _ _⟩
set_option maxRecDepth 100000 in
theorem qnew_f (w : World) (hR : Rdy w) : Calls Tryd.prog 9 #[] w fun e w' => ∃ p t S, e = .returned (.pointer (some ⟨p, 0, none⟩)) ∧ QE w' S p t EncS.new ∧ (∀ x, S x → w.heap.size ≤ x) ∧ Below w.heap.size w w' := by
  have hN := dnew_ok 4096 w hR (Nat.le_refl _)
  rw [show ((4096 : Nat) : Int) = 4096 from rfl] at hN
  have HN := Lib.hid hN
  have HR := Lib.hid hR
  clear hN hR
  go_enter Tryd.func9, Tryd.ntmps9
  go_wp2_with fail
  with_reducible refine (HN.out).mono ?_
  rintro e w1 ⟨q, S1, rfl, hT, hS1, hb1⟩
  have HT := Lib.hid hT
  have HS1 := Lib.hid hS1
  have HB := Lib.hid hb1
  clear hT hS1 hb1 HN
  go_wp2
  go_ret
  have hb2 : Below w1.heap.size w1 (w1.alloc (.cells #[.pointer (some ⟨q, 0, none⟩), .int .i64 4096, .int .i64 4096] 61)) := (Below.refl _ _).alloc (Nat.le_refl _) _
  have hS : ∀ x, (x = w1.heap.size ∨ S1 x) → w.heap.size ≤ x := fun x hx => by
    rcases hx with rfl | hx
    · exact HB.out.size
    · exact HS1.out x hx
  refine ⟨w1.heap.size, q, fun x => x = w1.heap.size ∨ S1 x, rfl, ⟨S1, 4096, heap_alloc_new w1 _, HT.out.keep (S' := fun _ => False) (Keeps.of_below hb2) (fun _ _ h => h), fun h => ?_, fun x => Iff.rfl, by simp [EncS.new], by simp, (fun h => by cases h), fun _ => ⟨rfl, rfl⟩, Free.new HR.out hS⟩, hS, HB.out.trans (hb2.mono HB.out.size)⟩
  have := HT.out.low _ h
  omega
set_option maxRecDepth 100000 in
set_option maxHeartbeats 4000000 in
theorem qpeer_f (n : Int) (w : World) (hR : Rdy w) (S : Nat → Prop) (p t : Nat) (s : EncS) (h : QE w S p t s) (_ : Rng n) : Calls Tryd.prog 12 #[.pointer (some ⟨p, 0, none⟩), .int .i64 n] w fun e w' => e = .returned (.tuple #[]) ∧ QPost S w p t (s.peer n) w' := by
  have hk := clampT_le n
  have hkk : clampT n = (min (max n 0) 4096).toNat := rfl
  obtain ⟨k, hkn⟩ : ∃ k, k = clampT n := ⟨_, rfl⟩
  rw [← hkn] at hk hkk
  have ek : min (max n 0) 4096 = (k : Int) := by rw [hkk]; omega
  have HS : Hid (s.peer n = ⟨k, fitL k s.tab, s.told, if s.set = false ∨ k < s.least then k else s.least, true⟩) := Lib.hid (by rw [EncS.peer, ← hkn])
  have x0 := h.c0
  obtain ⟨S1, L, hh, hT, hnp, hS, hb1, hb2, hb3, hb4, hF⟩ := id h
  have hp := lt_of_heap hh
  obtain ⟨L2, hL2⟩ : ∃ L2, L2 = (if k < L then k else L) := ⟨_, rfl⟩
  have hL3 : (if (k : Int) < (L : Int) then (k : Int) else (L : Int)) = (L2 : Int) := by rw [hL2]; split <;> split <;> omega
  have el : min (L : Int) (k : Int) = (L2 : Int) := by rw [← hL3]; split <;> omega
  have hL4 : L2 ≤ 4096 := by rw [hL2]; split <;> omega
  have hL5 : L2 = (if s.set = false ∨ k < s.least then k else s.least) := by
    cases hs : s.set with
    | true =>
      rw [hL2, hb3 hs]
      by_cases hc : k < s.least
      · rw [if_pos hc, if_pos (.inr hc)]
      · rw [if_neg hc, if_neg (by simp; omega)]
    | false =>
      rw [hL2, (hb4 hs).1, if_pos (show false = false ∨ k < s.least from .inl rfl)]
      split <;> omega
  have HLIM := Lib.hid (dlimit_ok w S1 t s.most k s.tab hR hT hk)
  have HFIN : Hid (∀ w1, DPost S1 w t k (fitL k s.tab) w1 → w1.cell? ⟨p, 2, none⟩ = some (.int .i64 (L : Int)) ∧ w1.frozen? ⟨p, 2, none⟩ = false ∧ QPost S w p t (s.peer n) (w1.setCell ⟨p, 2, none⟩ (.int .i64 (L2 : Int)))) := Lib.hid (fun w1 hP => by
    obtain ⟨S2, hT2, hS2, hK2⟩ := hP
    have hh1 := (hK2.block p hp hnp).trans hh
    refine ⟨cell_of_row _ p 2 _ 61 _ hh1, frozen_of_row w1 p 2 _ 61 hh1, ?_⟩
    have hn2 : ¬ S2 p := fun hx => by
      rcases hS2 p hx with h3 | h3
      · exact hnp h3
      · omega
    have hK3 : Keeps (fun x => x = p) w1 (w1.setCell ⟨p, 2, none⟩ (.int .i64 (L2 : Int))) := (Keeps.refl (fun x => x = p) w1).setCell (S := fun x => x = p) (p := ⟨p, 2, none⟩) rfl _
    have hh2 : (w1.setCell ⟨p, 2, none⟩ (.int .i64 (L2 : Int))).heap[p]? = some (.cells #[.pointer (some ⟨t, 0, none⟩), .int .i64 (s.told : Int), .int .i64 (L2 : Int)] 61 (0, 0)) := by
      have := heap_setCell_same w1 p 2 _ 61 (.int .i64 (L2 : Int)) hh1
      simpa using this
    have hS3 : ∀ x, (x = p ∨ S2 x) → S x ∨ w.heap.size ≤ x := fun x hx => by
      rcases hx with rfl | hx
      · exact .inl ((hS _).2 (.inl rfl))
      · rcases hS2 x hx with h3 | h3
        · exact .inl ((hS x).2 (.inr h3))
        · exact .inr h3
    rw [HS.out]
    refine ⟨fun x => x = p ∨ S2 x, ⟨S2, L2, hh2, hT2.keep hK3 (fun x hx e => hn2 (e ▸ hx)), hn2, fun x => Iff.rfl, hb1, hL4, fun _ => hL5, (fun h => by cases h), hF.more hR hS3⟩, hS3, (hK2.mono (fun x _ hx => (hS x).2 (.inr hx))).trans hK3 (fun x hx _ => by subst hx; exact (hS _).2 (.inl rfl))⟩)
  clear hkn hkk hk h hh hT hnp hS hb1 hb2 hb3 hb4 hF hp hL2 hL4 hL5 HS hR
  go_enter Tryd.func12, Tryd.ntmps12
  go_wp2_with fail
  with_reducible refine (HLIM.out).mono ?_
  rintro e w1 ⟨rfl, hP⟩
  obtain ⟨x2, f2, hq⟩ := HFIN.out w1 hP
  have HQ := Lib.hid hq
  clear hP hq x0 HLIM HFIN
  go_wp2
  go_end0
  exact ⟨rfl, HQ.out⟩
/-- Behind k fields: the row of bytes, the encoder's table. -/
def QnR (S : Nat → Prop) (w : World) (p t : Nat) (s : EncS) (Z : List Nat) (l : List Fld) (out i : Value) (wr : World) : Prop :=
  ∃ k S', k ≤ l.length ∧ i = .int .i64 (k : Int) ∧ QE wr S' p t ⟨s.most, (pall s.most s.tab (l.take k)).2, s.told, s.least, s.set⟩ ∧ (∀ x, S' x → S x ∨ w.heap.size ≤ x) ∧ Keeps S w wr ∧
    wr.ownsRow w.heap.size 5 1 out (Z ++ (pall s.most s.tab (l.take k)).1).length (cn .u8 (Z ++ (pall s.most s.tab (l.take k)).1)) ∧ (∀ x, out.ownBlock = some x → ¬ S' x) ∧ Rdy wr
theorem AtF.keepsQ {S : Nat → Prop} {wr w' : World} {A : Option Addr} {l : List Fld} (h : AtF wr wr.heap.size A l) (hk : Keeps S wr w') (hn : l ≠ [] → ∀ a, A = some a → ¬ S a.block) : AtF w' w'.heap.size A l := fun hl => by
  obtain ⟨b, o, e, hB, hc⟩ := h hl
  have hn' := hn hl _ e
  refine ⟨b, o, e, Nat.lt_of_lt_of_le hB hk.size, fun i hi => ?_⟩
  obtain ⟨c0, c1, c2⟩ := hc i hi
  exact ⟨(hk.cell (p := ⟨b, o + i * 3, none⟩) hB hn').trans c0, (hk.cell (p := ⟨b, o + i * 3 + 1, none⟩) hB hn').trans c1, (hk.cell (p := ⟨b, o + i * 3 + 2, none⟩) hB hn').trans c2⟩
set_option maxRecDepth 100000 in
set_option maxHeartbeats 8000000 in
theorem qenc_f (A : Option Addr) (l : List Fld) (n c : Nat) (w : World) (hR : Rdy w) (S : Nat → Prop) (p t : Nat) (s : EncS) (h : QE w S p t s) (hA : AtF w w.heap.size A l) (hl : l.length = n) (_ : A = none → c = 0) (_ : n ≤ c) (hAS : l ≠ [] → ∀ a, A = some a → ¬ S a.block) (ht : tot l ≤ 100000) :
    Calls Tryd.prog 14 #[.pointer (some ⟨p, 0, none⟩), .slice A n c] w (QEPost S w p t (s.enc l)) := by
  have hn : n ≤ 3200 := by have := tot_pos l; omega
  have hh0 := qhas_f A l n c w hA hl (by omega) (by omega)
  cases hF : allFit l with
  | false =>
    rw [hF] at hh0
    have HH := Lib.hid hh0
    have HE : Hid (s.enc l = ([], 3, s)) := Lib.hid (by rw [EncS.enc, hF]; rfl)
    have HQ := Lib.hid h
    clear hh0 hF hA hl hAS ht h hR
    go_enter Tryd.func14, Tryd.ntmps14
    go_wp2_with fail
    with_reducible refine (HH.out).mono ?_
    rintro e w1 ⟨rfl, hb1⟩
    have HB1 := Lib.hid hb1
    clear hb1 HH
    go_wp2
    go_ret2
    rw [HE.out]
    exact ⟨S, none, 0, rfl, HQ.out.quiet HB1.out, fun _ hx => .inl hx, Keeps.of_below HB1.out, at_nil _ _ _ _, fun _ => rfl, Nat.le_refl _, fun b o s e => by cases e⟩
  | true =>
    rw [hF] at hh0
    have HH := Lib.hid hh0
    have hall := allFit_iff.1 hF
    have hfit := h.fits
    obtain ⟨M, T, tl, ls, st⟩ := s
    simp only [] at hfit
    have HPL : Hid (∀ j, (pall M T (l.take j)).1.length ≤ 100000) := Lib.hid (fun j => by
      have h1 := pall_len M (l.take j) T hfit.1 hfit.2 (fun f hf => hall f (List.mem_of_mem_take hf))
      have h2 := tot_le l j
      omega)
    obtain ⟨Z, hZ⟩ : ∃ Z, Z = EncS.lims ⟨M, T, tl, ls, st⟩ := ⟨_, rfl⟩
    have hZl : Z.length ≤ 12 := by
      rw [hZ]
      obtain ⟨S1, L, _, _, _, _, _, hb2, hb3, hb4, _⟩ := id h
      rw [lims_by ⟨M, T, tl, ls, st⟩ L hb3 hb4 hfit.2]
      have a1 := Pn.put_six 32 5 L (by omega)
      have a2 := Pn.put_six 32 5 M (by omega)
      simp only []
      split
      · rw [List.length_append]; omega
      · split
        · omega
        · simp
    have HE : Hid (EncS.enc ⟨M, T, tl, ls, st⟩ l = (Z ++ (pall M T l).1, 0, ⟨M, (pall M T l).2, M, ls, false⟩)) := Lib.hid (by rw [EncS.enc, hF, hZ]; rfl)
    have HALL := Lib.hid hall
    have HLIMS := Lib.hid (fun (W : World) (hb : Below w.heap.size w W) => qlims_f W (hR.below hb) S p t ⟨M, T, tl, ls, st⟩ (h.quiet hb))
    have HZ := Lib.hid hZ
    have HA := Lib.hid hA
    have HL := Lib.hid hl
    have HAS := Lib.hid hAS
    have HR := Lib.hid hR
    have HFR := Lib.hid h.free
    have HLOW := Lib.hid h.low
    clear hh0 hF hA hl hAS ht h hR hall hfit hZ
    go_enter Tryd.func14, Tryd.ntmps14
    go_wp2_with fail
    with_reducible refine (HH.out).mono ?_
    rintro e w1 ⟨rfl, hb1⟩
    have HLI := Lib.hid (HLIMS.out w1 hb1)
    have HB1 := Lib.hid hb1
    clear hb1 HH HLIMS
    go_wp2_with fail
    with_reducible refine (HLI.out).mono ?_
    rintro e w2 ⟨v2, rfl, hown2, hq2, hk2⟩
    rw [← HZ.out] at hown2
    have hr2 : Rdy w2 := (HR.out.below HB1.out).keep hk2 HFR.out
    have hK2 : Keeps S w w2 := (Keeps.of_below (S := S) HB1.out).trans hk2 (fun x hx _ => hx)
    have hnS2 : ∀ x, v2.ownBlock = some x → ¬ S x := fun x hx hs => by
      have h1 := own_block hown2 x hx
      have h2 := HLOW.out x hs
      have h3 := HB1.out.size
      omega
    obtain ⟨AZ, cZ, rfl⟩ := own_shape hown2
    have hr0 : QnR S w p t ⟨M, T, M, ls, false⟩ Z l (.slice AZ Z.length cZ) (.int .i64 0) w2 := ⟨0, S, Nat.zero_le _, rfl, hq2, fun _ hx => .inl hx, hK2, by simpa [pall] using own_more hown2 HB1.out.size, hnS2, hr2⟩
    have HR0 := Lib.hid hr0
    clear hr0 hown2 hq2 hk2 hr2 hK2 hnS2 HLI
    go_wp2
    go_loopw [6, 15] (fun out i wr => QnR S w p t ⟨M, T, M, ls, false⟩ Z l out i wr) (fun _ i _ => n - (intOf i).toNat)
    case atStart => exact HR0.out
    case round =>
      clear HR0
      obtain ⟨j, S', hj, rfl, hRE, hS', hK, hown, hnS, hrd⟩ := hrel
      simp only [] at hRE hown
      obtain ⟨Tj, hTj⟩ : ∃ X, X = (pall M T (l.take j)).2 := ⟨_, rfl⟩
      obtain ⟨W, hW⟩ : ∃ X, X = Z ++ (pall M T (l.take j)).1 := ⟨_, rfl⟩
      rw [← hTj] at hRE
      rw [← hW] at hown
      have hWl : W.length ≤ 100012 := by rw [hW, List.length_append]; have := HPL.out j; omega
      obtain ⟨AW, cW, rfl⟩ := own_shape hown
      have HTJ := Lib.hid hTj
      have HW := Lib.hid hW
      clear hTj hW
      by_cases hjk : j < n
      · have hjl : j < l.length := by have := HL.out; omega
        have hAr := HA.out.keepsQ hK HAS.out
        obtain ⟨b, o, rfl, hb, hc⟩ := hAr.pos (by omega)
        obtain ⟨c0, c1, c2⟩ := hc j hjl
        have HNX : Hid (pall M T (l.take (j + 1)) = ((pall M T (l.take j)).1 ++ (pfld M Tj l[j]).1, (pfld M Tj l[j]).2)) := Lib.hid (by rw [pall_next M T l j hjl, HTJ.out])
        have HNL := Lib.hid (HPL.out (j + 1))
        have hfit := HALL.out l[j] (List.getElem_mem hjl)
        obtain ⟨f, hf⟩ : ∃ f, f = l[j] := ⟨_, rfl⟩
        rw [← hf] at c0 c1 c2 HNX hfit
        -- the row that the range's variable is
        have hbx : Below wr.heap.size wr (wr.alloc (.cells #[.string f.name, .string f.value, .bool f.never] 52)) := (Below.refl _ _).alloc (Nat.le_refl _) _
        have hgx : (wr.alloc (.cells #[.string f.name, .string f.value, .bool f.never] 52)).heap[wr.heap.size]? = some (.cells #[.string f.name, .string f.value, .bool f.never] 52 (0, 0)) := heap_alloc_new wr _
        have HFL := qfield_f f (wr.alloc (.cells #[.string f.name, .string f.value, .bool f.never] 52)) (hrd.below hbx) S' p t ⟨M, Tj, M, ls, false⟩ (hRE.quiet hbx) hfit
        simp only [] at HFL
        obtain ⟨Bj, hBj⟩ : ∃ X, X = (pfld M Tj f).1 := ⟨_, rfl⟩
        obtain ⟨Tn, hTn⟩ : ∃ X, X = (pfld M Tj f).2 := ⟨_, rfl⟩
        rw [← hBj, ← hTn] at HFL HNX
        have hBl : Bj.length ≤ 100000 := by
          have := HNL.out
          rw [HNX.out, List.length_append] at this
          omega
        replace HFL := Lib.hid HFL
        have HOW := Lib.hid (own_keep hown hbx)
        have HOWB := Lib.hid hown.lt
        have HNS := Lib.hid hnS
        have HK := Lib.hid hK
        have HS' := Lib.hid hS'
        have HRD := Lib.hid hrd
        have HFR' := Lib.hid hRE.free
        have HLOW' := Lib.hid hRE.low
        have HBX := Lib.hid hbx
        have jk : (j : Int) < (n : Int) := by omega
        clear hf hc hBj hTn hfit hAr hown hnS hK hS' hRE hjl hb hrd hbx hgx
        go_wp2_with fail
        with_reducible refine (HFL.out).mono ?_
        rintro e w8 ⟨A8, c8, rfl, hat8, hn8, hc8, S8, hre8, hS8, hK8⟩
        have HS8 : Hid (∀ x, S8 x → S' x ∨ wr.heap.size ≤ x) := Lib.hid (fun x hx => by
          rcases hS8 x hx with h | h
          · exact .inl h
          · exact .inr (Nat.le_trans HBX.out.size h))
        have HO8 := Lib.hid (row_keeps HOW.out hK8 HNS.out)
        have HAT8 := Lib.hid hat8
        have HRE8 := Lib.hid hre8
        have HK8 : Hid (Keeps S' wr w8) := Lib.hid ((Keeps.of_below (S := S') HBX.out).trans hK8 (fun x hx _ => hx))
        have HSZ : Hid (w.heap.size ≤ w8.heap.size) := Lib.hid (Nat.le_trans HK.out.size HK8.out.size)
        have HR8 : Hid (Rdy w8) := Lib.hid (HRD.out.keep HK8.out HFR'.out)
        clear hat8 hre8 hS8 hK8 c0 c1 c2 HFL
        go_wp2_with (at_builtin; refine wpList_append_aw rfl (.tmp 19) (.tmp 22) rfl w.heap.size _ W rfl HO8.out A8 Bj _ c8 rfl rfl hn8 _ HAT8.out (by omega) (HSZ.out) ?_; intro v9 w9 hown9 hg9 hwh9; have HO9 := Lib.hid hown9; have HG9 := Lib.hid hg9; have HWH := Lib.hid hwh9; obtain ⟨A9, c9, rfl⟩ := own_shape hown9; clear hown9 hg9 hwh9)
        go_roundw
        case rel =>
          have hout : ∀ x, (Value.slice AW W.length cW).ownBlock = some x → ¬ S8 x := fun x hx hs => by
            rcases HS8.out x hs with h1 | h1
            · exact HNS.out x hx h1
            · have := (HOWB.out x hx).2
              omega
          have hk9 : Keeps (fun x => (Value.slice AW W.length cW).ownBlock = some x) w8 w9 := ⟨HG9.out.os, HG9.out.tape, HG9.out.output, HG9.out.size, fun y hy hn => HG9.out.block y hy (fun e => hn e.symm)⟩
          refine ⟨j + 1, S8, by have := HL.out; omega, by go_num, ?_, fun x hx => ?_, ?_, ?_, fun x hx hs => ?_, ?_⟩
          · rw [HNX.out]
            exact HRE8.out.keep hk9 (fun x hx e => hout x e hx)
          · rcases HS8.out x hx with h1 | h1
            · exact HS'.out x h1
            · exact .inr (Nat.le_trans HK.out.size h1)
          · refine (HK.out.trans HK8.out (fun x hx hlt => ?_)).trans hk9 (fun x hx hlt => ?_)
            · rcases HS'.out x hx with h1 | h1
              · exact h1
              · omega
            · have := (HOWB.out x hx).1
              omega
          · rw [HNX.out]
            simp only []
            rw [← List.append_assoc, ← HW.out]
            have := HO9.out
            rw [List.length_append] at this ⊢
            exact this
          · rcases HWH.out x (by rw [List.length_append]; exact hx) with h1 | h1
            · exact hout x h1 hs
            · have := HRE8.out.low x hs
              omega
          · refine HR8.out.keep hk9 (fun h0 => ?_)
            have := (HOWB.out 0 h0).1
            have := HR.out.pos
            omega
        case measure => simp [intOf]; omega
      · obtain rfl : j = n := by have := HL.out; omega
        have et : l.take j = l := List.take_of_length_le (by have := HL.out; omega)
        have HFIN : Hid (QEPost S w p t (Z ++ (pall M T l).1, 0, ⟨M, (pall M T l).2, M, ls, false⟩) (.returned (.tuple #[.slice AW W.length cW, .int .i64 0])) wr) := Lib.hid (by
          have eW : W = Z ++ (pall M T l).1 := by rw [HW.out, et]
          have eT : Tj = (pall M T l).2 := by rw [HTJ.out, et]
          rw [← eW, ← eT]
          refine ⟨S', AW, cW, rfl, hRE, hS', hK, At.of_own hown, own_none hown, own_cap hown, fun b o s e => ?_⟩
          subst e
          exact ⟨(hown.lt b rfl).1, hnS b rfl⟩)
        have jk : ¬ (j : Int) < (j : Int) := by omega
        clear hRE hS' hK hown hnS
        go_wp2
        go_ret2
        rw [HE.out]
        exact HFIN.out
end Go.Proofs.YtiandidencnlcaaDoor
