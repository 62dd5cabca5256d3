/- The landed Find. -/
import Derived.Test.YtiandidencnlcaaDoorSFind
import Derived.Test.YtiandidencnlcaaDoorPGetD
import Derived.Test.YtiandidencnlcaaDoorHAux
import Derived.Test.YtiandidencnlcaaDoorLDFind
import Derived.Deep.RegionHeld3
import Derived.Test.YtiandidencnlcaaDoorQLLit
namespace Go.Proofs.YtiandidencnlcaaDoor
open Go.RowKit St
/-- Ahead of place k: what is found first by name, and what is found from k on, give the whole. -/
def FlR (n v : ByteArray) (D : Nat × Nat) (w : World) (a b : Value) (wr : World) : Prop := ∃ N k : Nat, k ≤ 61 ∧ N ≤ 61 ∧ a = .int .i64 (N : Int) ∧ b = .int .i64 (k : Int) ∧ D = ((fnd n.toList v.toList (61 - k) k).1, if N = 0 then (fnd n.toList v.toList (61 - k) k).2 else N) ∧ Below w.heap.size w wr
set_option maxRecDepth 100000 in
set_option maxHeartbeats 4000000 in
theorem find_s (n v : ByteArray) (w : World) : Calls Tryd.prog 65 #[.string n, .string v] w (FdPost w (found n v)) := by
  obtain ⟨D, hD⟩ : ∃ D, D = found n v := ⟨_, rfl⟩
  rw [← hD]
  have HD := Lib.hid hD
  clear hD
  go_enter Tryd.func65, Tryd.ntmps65
  go_wp2_with fail
  with_reducible refine (table_any w).mono ?_
  rintro e w2 ⟨T, rfl, hT, hb2⟩
  have HT := Lib.hid hT
  clear hT
  go_wp2
  go_loopw [6, 10] (fun a i wr => FlR n v D w a i wr) (fun _ i _ => 61 - (intOf i).toNat)
  case atStart => exact ⟨0, 0, by omega, by omega, rfl, rfl, by rw [HD.out]; rfl, hb2⟩
  case round =>
    obtain ⟨N, k, hk, hN61, rfl, rfl, hsm, hbw⟩ := hrel
    by_cases h0 : k < 61
    · have HN : Hid (fnd n.toList v.toList (61 - k) k = if (nm k).toList == n.toList then (if (vl k).toList == v.toList then (k + 1, k + 1) else ((fnd n.toList v.toList (61 - (k + 1)) (k + 1)).1, k + 1)) else fnd n.toList v.toList (61 - (k + 1)) (k + 1)) := Lib.hid (by
        rw [show 61 - k = 61 - (k + 1) + 1 by omega, fnd])
      have hix := tab_index k h0 wr
      rw [← HT.out] at hix
      obtain ⟨X, hX⟩ : ∃ X, X = nm k := ⟨_, rfl⟩
      obtain ⟨Y, hY⟩ : ∃ Y, Y = vl k := ⟨_, rfl⟩
      rw [← hX, ← hY] at hix HN
      have HSM := Lib.hid hsm
      have ki : (k : Int) < 61 := by omega
      have HB := Lib.hid (hbw.alloc hbw.size (.cells #[.string X, .string Y, .bool false] 52))
      clear hX hY hsm hb2 hbw
      cases hN : X.toList == n.toList with
      | false =>
        have HN2 : Hid (fnd n.toList v.toList (61 - k) k = fnd n.toList v.toList (61 - (k + 1)) (k + 1)) := Lib.hid (by rw [HN.out, hN]; rfl)
        go_wp2
        go_roundw
        case rel => exact ⟨N, k + 1, by omega, hN61, rfl, by go_num, by rw [← HN2.out]; exact HSM.out, HB.out⟩
        case measure => simp [intOf]; omega
      | true =>
        cases hV : Y.toList == v.toList with
        | false =>
          have HN2 : Hid (fnd n.toList v.toList (61 - k) k = ((fnd n.toList v.toList (61 - (k + 1)) (k + 1)).1, k + 1)) := Lib.hid (by rw [HN.out, hN, hV]; rfl)
          by_cases hz : N = 0
          · have q0 : ((N : Int) == 0) = true := by simp; omega
            go_wp2
            go_roundw
            case rel => exact ⟨k + 1, k + 1, by omega, by omega, by go_num, by go_num, by rw [HSM.out, HN2.out, if_pos hz, if_neg (by omega)], HB.out⟩
            case measure => simp [intOf]; omega
          · have q0 : ((N : Int) == 0) = false := by simp; omega
            go_wp2
            go_roundw
            case rel => exact ⟨N, k + 1, by omega, hN61, rfl, by go_num, by rw [HSM.out, HN2.out, if_neg hz, if_neg hz], HB.out⟩
            case measure => simp [intOf]; omega
        | true =>
          have HN2 : Hid (fnd n.toList v.toList (61 - k) k = (k + 1, k + 1)) := Lib.hid (by rw [HN.out, hN, hV]; rfl)
          by_cases hz : N = 0
          · have q0 : ((N : Int) == 0) = true := by simp; omega
            have HE : Hid (D = (k + 1, k + 1)) := Lib.hid (by rw [HSM.out, HN2.out, if_pos hz])
            go_wp2
            go_ret2
            rw [HE.out]
            exact ⟨by go_num, HB.out⟩
          · have q0 : ((N : Int) == 0) = false := by simp; omega
            have HE : Hid (D = (k + 1, N)) := Lib.hid (by rw [HSM.out, HN2.out, if_neg hz])
            go_wp2
            go_ret2
            rw [HE.out]
            exact ⟨by go_num, HB.out⟩
    · obtain rfl : k = 61 := by omega
      have HE : Hid (D = (0, N)) := Lib.hid (by
        rw [hsm, show 61 - 61 = 0 from rfl, fnd]
        by_cases hz : N = 0
        · rw [if_pos hz, hz]
        · rw [if_neg hz])
      clear hsm
      go_wp2
      go_ret2
      rw [HE.out]
      exact ⟨rfl, hbw⟩
theorem sfind_f (n v : ByteArray) (w : World) (_ : Rdy w) (_ : n.size ≤ 140737488355328) (_ : v.size ≤ 140737488355328) : Calls Tryd.prog 65 #[.string n, .string v] w (FdPost w (found n v)) := find_s n v w
end Go.Proofs.YtiandidencnlcaaDoor
/- The landed encoder's find: both indexes of a field. -/
namespace Go.Proofs.YtiandidencnlcaaDoor
open Go.RowKit

/-- Its table, and what a call on it that turns no limit leaves. -/
theorem QE.table {w : World} {S : Nat → Prop} {p t : Nat} {s : EncS} (h : QE w S p t s) : ∃ S1, DT w S1 t s.most s.tab ∧ (∀ x, S1 x → S x) ∧ ∀ (w' : World) (l : List Fld), Rdy w → DPost S1 w t s.most l w' → QPost S w p t ⟨s.most, l, s.told, s.least, s.set⟩ w' := by
  obtain ⟨S1, least, hh, hT, hn, hS, hb1, hb2, hb3, hb4, hF⟩ := h
  have hp := lt_of_heap hh
  refine ⟨S1, hT, fun x hx => (hS x).2 (.inr hx), fun w' l hR hP => ?_⟩
  obtain ⟨S2, hT2, hS2, hK2⟩ := hP
  have hS3 : ∀ x, (x = p ∨ S2 x) → S x ∨ w.heap.size ≤ x := fun x hx => by
    rcases hx with rfl | hx
    · exact .inl ((hS _).2 (.inl rfl))
    · rcases hS2 x hx with h3 | h3
      · exact .inl ((hS x).2 (.inr h3))
      · exact .inr h3
  refine ⟨fun x => x = p ∨ S2 x, ⟨S2, least, (hK2.block p hp hn).trans hh, hT2, fun hx => ?_, fun x => Iff.rfl, hb1, hb2, hb3, hb4, hF.more hR hS3⟩, hS3, hK2.mono (fun x _ hx => (hS x).2 (.inr hx))⟩
  rcases hS2 p hx with h3 | h3
  · exact hn h3
  · omega
theorem QPost.then {S S1 : Nat → Prop} {w w1 w2 : World} {p t : Nat} {s : EncS} (hS : ∀ x, S1 x → S x ∨ w.heap.size ≤ x) (hK : Keeps S w w1) (h : QPost S1 w1 p t s w2) : QPost S w p t s w2 := by
  obtain ⟨S2, hT, hS2, hK2⟩ := h
  refine ⟨S2, hT, fun x hx => ?_, hK.trans hK2 (fun x hx hlt => ?_)⟩
  · rcases hS2 x hx with h1 | h1
    · exact hS x h1
    · exact .inr (Nat.le_trans hK.size h1)
  · rcases hS x hx with h1 | h1
    · exact h1
    · omega
theorem QE.lt {w : World} {S : Nat → Prop} {p t : Nat} {s : EncS} (h : QE w S p t s) : p < w.heap.size := by
  obtain ⟨S1, least, hh, _⟩ := h
  exact lt_of_heap hh
theorem QE.own {w : World} {S : Nat → Prop} {p t : Nat} {s : EncS} (h : QE w S p t s) : S p := by
  obtain ⟨S1, least, _, _, _, hS, _⟩ := h
  exact (hS p).2 (.inl rfl)
theorem QE.c0 {w : World} {S : Nat → Prop} {p t : Nat} {s : EncS} (h : QE w S p t s) : w.cell? ⟨p, 0, none⟩ = some (.pointer (some ⟨t, 0, none⟩)) := by
  obtain ⟨S1, least, hh, _⟩ := h
  exact cell_of_row _ p 0 _ 61 _ hh
theorem QE.free {w : World} {S : Nat → Prop} {p t : Nat} {s : EncS} (h : QE w S p t s) : Free S := by
  obtain ⟨_, _, _, _, _, _, _, _, _, _, hF⟩ := h
  exact hF
set_option maxRecDepth 100000 in
set_option maxHeartbeats 4000000 in
theorem qfind_f (F1 F2 : ByteArray) (F3 : Bool) (w : World) (hR : Rdy w) (S : Nat → Prop) (p t : Nat) (s : EncS) (h : QE w S p t s) (hf1 : F1.size ≤ 16384) (hf2 : F2.size ≤ 16384) :
    Calls Tryd.prog 51 #[.pointer (some ⟨p, 0, none⟩), .agg #[.string F1, .string F2, .bool F3]] w fun e w' => e = .returned (.tuple #[.int .i64 ((pboth s.tab F1 F2 : Nat) : Int), .int .i64 ((pname s.tab F1 F2 : Nat) : Int)]) ∧ Below w.heap.size w w' := by
  rw [pboth_eith, pname_eith]
  have hb1 : Below w.heap.size w (w.alloc (.cells #[.string F1, .string F2, .bool F3] 52)) := (Below.refl _ _).alloc (Nat.le_refl _) _
  have hgh : (w.alloc (.cells #[.string F1, .string F2, .bool F3] 52)).heap[w.heap.size]? = some (.cells #[.string F1, .string F2, .bool F3] 52 (0, 0)) := heap_alloc_new w _
  obtain ⟨g, hg⟩ : ∃ g, g = w.heap.size := ⟨_, rfl⟩
  obtain ⟨w1, hw1⟩ : ∃ w1, w1 = w.alloc (.cells #[.string F1, .string F2, .bool F3] 52) := ⟨_, rfl⟩
  rw [← hw1] at hb1 hgh
  rw [← hg] at hgh
  have hgl : g < w1.heap.size := lt_of_heap hgh
  have HG0 := Lib.hid fun (W : World) (hb : Below w1.heap.size w1 W) => (hb.cell (p := ⟨g, 0, none⟩) hgl).trans (cell_of_row _ g 0 _ 52 _ hgh)
  have HG1 := Lib.hid fun (W : World) (hb : Below w1.heap.size w1 W) => (hb.cell (p := ⟨g, 1, none⟩) hgl).trans (cell_of_row _ g 1 _ 52 _ hgh)
  have g0 := HG0.out w1 (Below.refl _ _)
  have g1 := HG1.out w1 (Below.refl _ _)
  have HFD := Lib.hid (sfind_f F1 F2 w1 (hR.below hb1) (by omega) (by omega))
  have hln : s.tab.length ≤ 128 := by have := tot_pos s.tab; have := h.fits; omega
  have hle := fndL_le F1.toList F2.toList s.tab
  have HTF : Hid (∀ W, Below w.heap.size w W → Calls Tryd.prog 66 #[.pointer (some ⟨t, 0, none⟩), .string F1, .string F2] W (NPost W (fndL F1.toList F2.toList s.tab 0))) := Lib.hid (fun W hb => by
    obtain ⟨S1, hT, _⟩ := (h.quiet hb).table
    exact dfind_f W S1 t s.most s.tab F1 F2 (hR.below hb) hT (by omega) (by omega))
  have HX : Hid (∀ W, Below w.heap.size w W → W.cell? ⟨p, 0, none⟩ = some (.pointer (some ⟨t, 0, none⟩))) := Lib.hid (fun W hb => (h.quiet hb).c0)
  obtain ⟨b, hb⟩ : ∃ b, b = (St.fnd F1.toList F2.toList 61 0).1 := ⟨_, rfl⟩
  obtain ⟨nn, hnn⟩ : ∃ b, b = (St.fnd F1.toList F2.toList 61 0).2 := ⟨_, rfl⟩
  have HFOUND : Hid (found F1 F2 = (b, nn)) := Lib.hid (by rw [hb, hnn]; rfl)
  obtain ⟨Dd, hDd⟩ : ∃ D, D = fndL F1.toList F2.toList s.tab 0 := ⟨_, rfl⟩
  rw [← hDd] at HTF hle
  rw [← hDd, ← hb, ← hnn]
  have HB1 := Lib.hid hb1
  have HG := Lib.hid hg
  have HW := Lib.hid hw1
  obtain ⟨o, nd⟩ := Dd
  simp only [] at hle ⊢
  have ho : o ≤ 1000 := by omega
  have hnd : nd ≤ 1000 := by omega
  have HEB := Lib.hid (fun (W : World) => qeither_f b o W ho)
  have HEN := Lib.hid (fun (W : World) => qeither_f nn nd W hnd)
  obtain ⟨rb, hrb⟩ : ∃ r, r = eith b o := ⟨_, rfl⟩
  obtain ⟨rn, hrn⟩ : ∃ r, r = eith nn nd := ⟨_, rfl⟩
  rw [← hrb] at HEB
  rw [← hrn] at HEN
  rw [← hrb, ← hrn]
  clear hb hnn hDd hgh hb1 h hg hw1 hle ho hnd hrb hrn hln hR hf1 hf2
  go_enter Tryd.func51, Tryd.ntmps51
  go_wp2_with fail
  rw [← HW.out, ← HG.out]
  with_reducible refine (HFD.out).mono ?_
  rw [HFOUND.out]
  rintro e w2 ⟨rfl, hb2⟩
  have HB2 := Lib.hid hb2
  have HBW2 : Hid (Below w.heap.size w w2) := Lib.hid (HB1.out.trans (hb2.mono HB1.out.size))
  have x0 := HX.out w2 HBW2.out
  have y0 := HG0.out w2 hb2
  have y1 := HG1.out w2 hb2
  have hd : Below w2.heap.size w2 w2.drew := (Below.refl _ _).drew
  have HTF2 := Lib.hid (HTF.out w2.drew (HBW2.out.drew))
  clear g0 g1 hb2 HFD HTF
  go_wp2
  go_region_held3 (fun w' => w'.cell? ⟨p, 0, none⟩ = some (.pointer (some ⟨t, 0, none⟩)) ∧ w'.cell? ⟨g, 0, none⟩ = some (.string F1) ∧ w'.cell? ⟨g, 1, none⟩ = some (.string F2))
    (first
      | exact ⟨x0, y0, y1⟩
      | exact ⟨HX.out _ (HBW2.out.trans (hb3.mono HBW2.out.size)), HG0.out _ (HB2.out.trans (hb3.mono HB2.out.size)), HG1.out _ (HB2.out.trans (hb3.mono HB2.out.size))⟩)
    (first
      | ((with_reducible refine (HTF2.out).mono ?_); rintro e w3 ⟨rfl, hb3'⟩; have hb3 : Below w2.heap.size w2 w3 := hd.trans (hb3'.mono hd.size)))
  have HB3 : Hid (Below w.heap.size w w3) := Lib.hid (HBW2.out.trans (hb3.mono HBW2.out.size))
  clear hb3 hb3' x0 y0 y1 hd HTF2
  go_wp2_with fail
  with_reducible refine (HEB.out w3).mono ?_
  rintro e w4 ⟨rfl, rfl⟩
  go_wp2_with fail
  with_reducible refine (HEN.out w4).mono ?_
  rintro e w5 ⟨rfl, rfl⟩
  go_wp2
  go_ret2
  exact ⟨rfl, HB3.out⟩
end Go.Proofs.YtiandidencnlcaaDoor
/- The landed encoder's field. -/
namespace Go.Proofs.YtiandidencnlcaaDoor
open Go.RowKit

/-- What field hands back: bytes somewhere; the encoder then. -/
def QFPost (S : Nat → Prop) (w : World) (p t : Nat) (s : EncS) (B : List Nat) (e : Ending) (w' : World) : Prop :=
  ∃ A c, e = .returned (.slice A B.length c) ∧ At .u8 w' w'.heap.size A B ∧ (A = none → c = 0) ∧ B.length ≤ c ∧ QPost S w p t s w'
set_option maxRecDepth 100000 in
set_option maxHeartbeats 8000000 in
theorem qfield_f (f : Fld) (w : World) (hR : Rdy w) (S : Nat → Prop) (p t : Nat) (s : EncS) (h : QE w S p t s) (hf : f.fits) :
    Calls Tryd.prog 36 #[.pointer (some ⟨p, 0, none⟩), .agg #[.string f.name, .string f.value, .bool f.never]] w (QFPost S w p t ⟨s.most, (pfld s.most s.tab f).2, s.told, s.least, s.set⟩ (pfld s.most s.tab f).1) := by
  obtain ⟨F1, F2, F3⟩ := f
  obtain ⟨hf1, hf2⟩ := hf
  simp only [] at hf1 hf2 ⊢
  have hb1 : Below w.heap.size w (w.alloc (.cells #[.string F1, .string F2, .bool F3] 52)) := (Below.refl _ _).alloc (Nat.le_refl _) _
  have hgh : (w.alloc (.cells #[.string F1, .string F2, .bool F3] 52)).heap[w.heap.size]? = some (.cells #[.string F1, .string F2, .bool F3] 52 (0, 0)) := heap_alloc_new w _
  obtain ⟨g, hg⟩ : ∃ g, g = w.heap.size := ⟨_, rfl⟩
  obtain ⟨w1, hw1⟩ : ∃ w1, w1 = w.alloc (.cells #[.string F1, .string F2, .bool F3] 52) := ⟨_, rfl⟩
  rw [← hw1] at hb1 hgh
  rw [← hg] at hgh
  have hgl : g < w1.heap.size := lt_of_heap hgh
  have HGC := Lib.hid fun (W : World) (hb : Below w1.heap.size w1 W) => (show W.heap[g]? = some (.cells #[.string F1, .string F2, .bool F3] 52 (0, 0)) from (hb.block g hgl).trans hgh)
  have HC0 := Lib.hid fun (W : World) (hh : W.heap[g]? = some (.cells #[.string F1, .string F2, .bool F3] 52 (0, 0))) => (show W.cell? ⟨g, 0, none⟩ = some (.string F1) from cell_of_row _ g 0 _ 52 _ hh)
  have HC1 := Lib.hid fun (W : World) (hh : W.heap[g]? = some (.cells #[.string F1, .string F2, .bool F3] 52 (0, 0))) => (show W.cell? ⟨g, 1, none⟩ = some (.string F2) from cell_of_row _ g 1 _ 52 _ hh)
  have HC2 := Lib.hid fun (W : World) (hh : W.heap[g]? = some (.cells #[.string F1, .string F2, .bool F3] 52 (0, 0))) => (show W.cell? ⟨g, 2, none⟩ = some (.bool F3) from cell_of_row _ g 2 _ 52 _ hh)
  have g0 := HC0.out w1 hgh
  have g1 := HC1.out w1 hgh
  have g2 := HC2.out w1 hgh
  have HFD := Lib.hid (qfind_f F1 F2 F3 w1 (hR.below hb1) S p t s (h.quiet hb1) hf1 hf2)
  have hfit := h.fits
  have hln : s.tab.length ≤ 128 := by have := tot_pos s.tab; omega
  have hBl := both_le s.tab F1 F2 (by omega)
  have hNl := name_le s.tab F1 F2 (by omega)
  obtain ⟨B, hB⟩ : ∃ B, B = pboth s.tab F1 F2 := ⟨_, rfl⟩
  obtain ⟨N, hN⟩ : ∃ N, N = pname s.tab F1 F2 := ⟨_, rfl⟩
  rw [← hB, ← hN] at HFD
  rw [← hB] at hBl
  rw [← hN] at hNl
  have HPF : Hid (pfld s.most s.tab ⟨F1, F2, F3⟩ = if 0 < B ∧ F3 = false then (Pn.put 128 7 B, s.tab) else (Pn.put (if F3 then 16 else 64) (if F3 then 4 else 6) N ++ ((if N = 0 then pstr (nums F1) else []) ++ pstr (nums F2)), if F3 then s.tab else addL s.most ⟨F1, F2, F3⟩ s.tab)) := Lib.hid (by rw [hB, hN]; rfl)
  have HQ : Hid (∀ W, Below w.heap.size w W → QE W S p t s) := Lib.hid (fun W hb => h.quiet hb)
  have HB1 := Lib.hid hb1
  have HG := Lib.hid hg
  have HW := Lib.hid hw1
  have HR := Lib.hid hR
  have HF1 := Lib.hid hf1
  have HF2 := Lib.hid hf2
  have HGG := Lib.hid hgl
  have HLIT := Lib.hid (fun (hh B : Nat) (W : World) (hb : Below w.heap.size w W) (h1 : hh < 256) (h2 : 1 ≤ B) (h3 : B ≤ 8) => qlit_f hh B N F1 F2 F3 W (hR.below hb) h1 h2 h3 (by omega) hf1 hf2)
  clear hB hN hgh hb1 hg hw1 hln hfit hf1 hf2 hR h hgl
  cases F3 with
  | true =>
    have HPF2 := HPF.out.trans (if_neg (by simp))
    simp only [if_true] at HPF2
    obtain ⟨E, hE⟩ : ∃ E, E = Pn.put 16 4 N ++ ((if N = 0 then pstr (nums F1) else []) ++ pstr (nums F2)) := ⟨_, rfl⟩
    rw [← hE] at HPF2
    have hl := fun (W : World) (hb : Below w.heap.size w W) => HLIT.out 16 4 W hb (by omega) (by omega) (by omega)
    rw [← hE, show ((16 : Nat) : Int) = 16 from rfl, show ((4 : Nat) : Int) = 4 from rfl] at hl
    have HL := Lib.hid hl
    have HPF3 := Lib.hid HPF2
    clear hE hl HPF2 HPF HLIT
    go_enter Tryd.func36, Tryd.ntmps36
    go_wp2_with fail
    rw [← HW.out, ← HG.out]
    with_reducible refine (HFD.out).mono ?_
    rintro e w2 ⟨rfl, hb2⟩
    have hh2 := HGC.out w2 hb2
    have y0 := HC0.out w2 hh2
    have y1 := HC1.out w2 hh2
    have y2 := HC2.out w2 hh2
    have HBW2 : Hid (Below w.heap.size w w2) := Lib.hid (HB1.out.trans (hb2.mono HB1.out.size))
    have HL2 := Lib.hid (HL.out w2 HBW2.out)
    clear g0 g1 g2 hb2 hh2 HFD HL
    go_wp2_with fail
    with_reducible refine (HL2.out).mono ?_
    rintro e w3 ⟨v3, rfl, hr3⟩
    obtain ⟨A3, c3, rfl, hat3, hn3, hc3⟩ := hr3.at
    have HR3 := Lib.hid hr3.2
    have HA3 := Lib.hid hat3
    clear hr3 hat3 HL2 y0 y1 y2
    go_wp2
    go_ret
    rw [HPF3.out]
    refine ⟨A3, c3, rfl, HA3.out, hn3, hc3, ?_⟩
    have hb4 := HBW2.out.trans (HR3.out.mono HBW2.out.size)
    exact ⟨S, HQ.out _ hb4, fun _ hx => .inl hx, Keeps.of_below hb4⟩
  | false =>
    by_cases hB0 : 0 < B
    · have q1 : (0 : Int) < (B : Int) := by omega
      have HPF2 := HPF.out.trans (if_pos ⟨hB0, rfl⟩)
      have hp := fun (W : World) => qnum_f 128 7 B W (by omega) (by omega) (by omega) (by omega)
      rw [show ((128 : Nat) : Int) = 128 from rfl, show ((7 : Nat) : Int) = 7 from rfl] at hp
      obtain ⟨E, hE⟩ : ∃ E, E = Pn.put 128 7 B := ⟨_, rfl⟩
      rw [← hE] at HPF2 hp
      have HL := Lib.hid hp
      have HPF3 := Lib.hid HPF2
      clear hE hp HPF2 HPF HLIT hB0
      go_enter Tryd.func36, Tryd.ntmps36
      go_wp2_with fail
      rw [← HW.out, ← HG.out]
      with_reducible refine (HFD.out).mono ?_
      rintro e w2 ⟨rfl, hb2⟩
      have hh2 := HGC.out w2 hb2
      have y2 := HC2.out w2 hh2
      have HBW2 : Hid (Below w.heap.size w w2) := Lib.hid (HB1.out.trans (hb2.mono HB1.out.size))
      clear g0 g1 g2 hb2 hh2 HFD
      go_wp2_with fail
      with_reducible refine (HL.out w2).mono ?_
      rintro e w3 ⟨v3, rfl, hr3⟩
      obtain ⟨A3, c3, rfl, hat3, hn3, hc3⟩ := hr3.at
      have HR3 := Lib.hid hr3.2
      have HA3 := Lib.hid hat3
      clear hr3 hat3 HL y2
      go_wp2
      go_ret
      rw [HPF3.out]
      refine ⟨A3, c3, rfl, HA3.out, hn3, hc3, ?_⟩
      have hb4 := HBW2.out.trans (HR3.out.mono HBW2.out.size)
      exact ⟨S, HQ.out _ hb4, fun _ hx => .inl hx, Keeps.of_below hb4⟩
    · have q1 : ¬ (0 : Int) < (B : Int) := by omega
      have HPF2 := HPF.out.trans (if_neg (by omega))
      simp only [Bool.false_eq_true, if_false] at HPF2
      obtain ⟨E, hE⟩ : ∃ E, E = Pn.put 64 6 N ++ ((if N = 0 then pstr (nums F1) else []) ++ pstr (nums F2)) := ⟨_, rfl⟩
      rw [← hE] at HPF2
      obtain ⟨T, hT⟩ : ∃ T, T = addL s.most ⟨F1, F2, false⟩ s.tab := ⟨_, rfl⟩
      rw [← hT] at HPF2
      have HPF3 := Lib.hid HPF2
      have HKEY : Hid (∀ W, Below w.heap.size w W → W.heap[g]? = some (.cells #[.string F1, .string F2, .bool false] 52 (0, 0)) → Calls Tryd.prog 53 #[.pointer (some ⟨t, 0, none⟩), .agg #[.string F1, .string F2, .bool false]] W fun e w' => e = .returned (.tuple #[]) ∧ QPost S w p t ⟨s.most, T, s.told, s.least, s.set⟩ w' ∧ w'.heap[g]? = some (.cells #[.string F1, .string F2, .bool false] 52 (0, 0)) ∧ Rdy w') := Lib.hid (fun W hb hgW => by
        have hqe := HQ.out W hb
        have hRW := HR.out.below hb
        obtain ⟨S1, hT1, hs1, hF1⟩ := hqe.table
        refine (dadd_f W S1 t s.most s.tab ⟨F1, F2, false⟩ hRW hT1 (by have := HF1.out; have := HF2.out; unfold fsize; simp only []; omega)).mono ?_
        rintro e w' ⟨rfl, hP⟩
        have hP2 := hF1 w' _ hRW hP
        obtain ⟨_, _, _, hK⟩ := hP
        refine ⟨rfl, ?_, ?_, hRW.keep hK (hqe.free.sub hs1)⟩
        · rw [hT]
          exact QPost.then (fun _ hx => .inl hx) (Keeps.of_below hb) hP2
        · refine (hK.block g (lt_of_heap hgW) (fun hx => ?_)).trans hgW
          have h1 := (HQ.out w (Below.refl _ _)).low g (hs1 g hx)
          have h2 := HG.out
          omega)
      have hl := fun (W : World) (hr : Rdy W) => qlit_f 64 6 N F1 F2 false W hr (by omega) (by omega) (by omega) (by omega) HF1.out HF2.out
      rw [← hE, show ((64 : Nat) : Int) = 64 from rfl, show ((6 : Nat) : Int) = 6 from rfl] at hl
      have HL := Lib.hid hl
      have HX : Hid (∀ W, Below w.heap.size w W → W.cell? ⟨p, 0, none⟩ = some (.pointer (some ⟨t, 0, none⟩))) := Lib.hid (fun W hb => (HQ.out W hb).c0)
      clear hE hl HPF2 HPF HLIT hB0 hT
      go_enter Tryd.func36, Tryd.ntmps36
      go_wp2_with fail
      rw [← HW.out, ← HG.out]
      with_reducible refine (HFD.out).mono ?_
      rintro e w2 ⟨rfl, hb2⟩
      have hh2 := HGC.out w2 hb2
      have y0 := HC0.out w2 hh2
      have y1 := HC1.out w2 hh2
      have y2 := HC2.out w2 hh2
      have HBW2 : Hid (Below w.heap.size w w2) := Lib.hid (HB1.out.trans (hb2.mono HB1.out.size))
      have x0 := HX.out w2 HBW2.out
      have HADD := Lib.hid (HKEY.out w2.drew HBW2.out.drew (HGC.out w2.drew hb2.drew))
      clear g0 g1 g2 hb2 hh2 HFD HKEY
      go_wp2
      go_region_with (first
        | ((with_reducible refine (HADD.out).mono ?_); rintro e w3 ⟨rfl, hP3, hh3, hr3⟩; have HP3 := Lib.hid hP3; have HH3 := Lib.hid hh3; have HR3 := Lib.hid hr3; clear hP3 hh3 hr3))
      all_goals
        have z0 := HC0.out w3 HH3.out
        have z1 := HC1.out w3 HH3.out
        have z2 := HC2.out w3 HH3.out
        have HL3 := Lib.hid (HL.out w3 HR3.out)
        clear HL x0 y0 y1 y2 HADD
        go_wp2_with fail
        with_reducible refine (HL3.out).mono ?_
        rintro e w4 ⟨v4, rfl, hr4⟩
        obtain ⟨A4, c4, rfl, hat4, hn4, hc4⟩ := hr4.at
        have HR4 := Lib.hid hr4.2
        have HA4 := Lib.hid hat4
        clear hr4 hat4 HL3 z0 z1 z2
        go_wp2
        go_ret
        rw [HPF3.out]
        refine ⟨A4, c4, rfl, HA4.out, hn4, hc4, ?_⟩
        obtain ⟨S4, h1, h2, h3⟩ := HP3.out
        exact ⟨S4, h1.quiet HR4.out, h2, h3.trans (S' := fun _ => False) (Keeps.of_below HR4.out) (fun _ h _ => h.elim)⟩
end Go.Proofs.YtiandidencnlcaaDoor
