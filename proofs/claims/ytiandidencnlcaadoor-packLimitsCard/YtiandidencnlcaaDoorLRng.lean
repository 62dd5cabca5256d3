/- Contract of the reference's Same. -/
import Derived.Test.YtiandidencnlcaaDoorDGetL
import Derived.Test.YtiandidencnlcaaDoorUUse
import Derived.Deep.RegionHeld3
import Derived.BigQuiet
import Derived.Test.YtiandidencnlcaaDoorLStr
import Derived.Lib.AppendStr
import Derived.Lib.SlBytesConst
import Derived.Test.YtiandidencnlcaaDoorPGetD
import Derived.OpenShut
namespace Go.Proofs.YtiandidencnlcaaDoor
open Go.RowKit

def alike (f g : Fld) : Bool := f.name.toList == g.name.toList && f.value.toList == g.value.toList
def sames : List Fld → List Fld → Bool
  | [], [] => true
  | x :: r, y :: s => alike x y && sames r s
  | _, _ => false
theorem sames_len : ∀ {a b : List Fld}, sames a b = true → a.length = b.length
  | [], [], _ => rfl
  | [], _ :: _, h => by simp [sames] at h
  | _ :: _, [], h => by simp [sames] at h
  | x :: r, y :: s, h => by
    simp only [sames, Bool.and_eq_true] at h
    rw [List.length_cons, List.length_cons, sames_len h.2]
def SmR (a b : List Fld) (D : Bool) (w : World) (i : Value) (wr : World) : Prop := ∃ k : Nat, k ≤ a.length ∧ i = .int .i64 (k : Int) ∧ sames (a.drop k) (b.drop k) = D ∧ Below w.heap.size w wr
set_option maxRecDepth 100000 in
set_option maxHeartbeats 4000000 in
theorem rsame_any (A B : Option Addr) (a b : List Fld) (n m c d : Nat) (w : World) (hA : AtF w w.heap.size A a) (hB : AtF w w.heap.size B b) (hl : a.length = n) (hm : b.length = m) (hn : n ≤ 1000000) : Calls Tryd.prog 42 #[.slice A n c, .slice B m d] w (BoolPost w (sames a b)) := by
  have HA := Lib.hid hA
  have HB := Lib.hid hB
  have HL := Lib.hid hl
  have HM := Lib.hid hm
  obtain ⟨D, hD⟩ : ∃ D, D = sames a b := ⟨_, rfl⟩
  rw [← hD]
  have HD := Lib.hid hD
  clear hA hB hl hm hD
  by_cases hnm : n = m
  · subst hnm
    go_enter Tryd.func42, Tryd.ntmps42
    go_wp2
    go_loopw [5] (fun i wr => SmR a b D w i wr) (fun i _ => n - (intOf i).toNat)
    case atStart => exact ⟨0, Nat.zero_le _, rfl, HD.out.symm, Below.refl _ _⟩
    case round =>
      obtain ⟨k, hk, rfl, hsm, hbw⟩ := hrel
      by_cases hlt : k < n
      · have hka : k < a.length := by have := HL.out; omega
        have hkb : k < b.length := by have := HM.out; omega
        obtain ⟨b1, o1, rfl, hb1, hc1⟩ := HA.out.pos (by omega)
        obtain ⟨b2, o2, rfl, hb2, hc2⟩ := HB.out.pos (by omega)
        obtain ⟨f, hf⟩ : ∃ f, f = a[k] := ⟨_, rfl⟩
        obtain ⟨g, hg⟩ : ∃ g, g = b[k] := ⟨_, rfl⟩
        obtain ⟨c0, c1, c2⟩ := hc1 k hka
        obtain ⟨e0, e1, e2⟩ := hc2 k hkb
        rw [← hf] at c0 c1
        rw [← hg] at e0 e1
        have x0 : wr.cell? ⟨b1, o1 + k * 3, none⟩ = some (.string f.name) := (hbw.cell (p := ⟨b1, o1 + k * 3, none⟩) hb1).trans c0
        have x1 : wr.cell? ⟨b1, o1 + k * 3 + 1, none⟩ = some (.string f.value) := (hbw.cell (p := ⟨b1, o1 + k * 3 + 1, none⟩) hb1).trans c1
        have y0 : wr.cell? ⟨b2, o2 + k * 3, none⟩ = some (.string g.name) := (hbw.cell (p := ⟨b2, o2 + k * 3, none⟩) hb2).trans e0
        have y1 : wr.cell? ⟨b2, o2 + k * 3 + 1, none⟩ = some (.string g.value) := (hbw.cell (p := ⟨b2, o2 + k * 3 + 1, none⟩) hb2).trans e1
        have HNX : Hid (D = (alike f g && sames (a.drop (k + 1)) (b.drop (k + 1)))) := Lib.hid (by
          rw [← hsm, List.drop_eq_getElem_cons hka, List.drop_eq_getElem_cons hkb, sames, hf, hg])
        have ki : (k : Int) < (n : Int) := by omega
        obtain ⟨f1, f2, f3⟩ := f
        obtain ⟨g1, g2, g3⟩ := g
        simp only [] at x0 x1 y0 y1
        clear hc1 hc2 hka hkb hf hg c0 c1 c2 e0 e1 e2 hsm
        cases hN : f1.toList == g1.toList with
        | false =>
          have HDD : Hid (D = false) := Lib.hid (by rw [HNX.out, alike]; simp only []; rw [hN]; rfl)
          go_wp2
          go_quiet (fail)
          go_wp2
          go_ret
          rw [HDD.out]
          exact ⟨rfl, below_drewN hbw nq⟩
        | true =>
          cases hV : f2.toList == g2.toList with
          | false =>
            have HDD : Hid (D = false) := Lib.hid (by rw [HNX.out, alike]; simp only []; rw [hN, hV]; rfl)
            go_wp2
            go_quiet (fail)
            go_wp2
            go_ret
            rw [HDD.out]
            exact ⟨rfl, below_drewN hbw nq⟩
          | true =>
            have HDD : Hid (sames (a.drop (k + 1)) (b.drop (k + 1)) = D) := Lib.hid (by rw [HNX.out, alike]; simp only []; rw [hN, hV]; rfl)
            go_wp2
            go_quiet (fail)
            go_wp2
            go_roundw
            case rel => exact ⟨k + 1, by have := HL.out; omega, by go_num, HDD.out, below_drewN hbw nq⟩
            case measure => simp [intOf]; omega
      · obtain rfl : k = n := by have := HL.out; omega
        have HDD : Hid (D = true) := Lib.hid (by
          rw [← hsm, List.drop_of_length_le (by have := HL.out; omega), List.drop_of_length_le (by have := HM.out; omega)]
          rfl)
        clear hsm
        go_wp2
        go_ret
        rw [HDD.out]
        exact ⟨rfl, hbw⟩
  · have HDD : Hid (D = false) := Lib.hid (by
      rw [HD.out]
      cases h : sames a b with
      | false => rfl
      | true => exact absurd (by rw [← HL.out, ← HM.out]; exact sames_len h) hnm)
    have q : ((n : Int) != (m : Int)) = true := by simp; omega
    go_enter Tryd.func42, Tryd.ntmps42
    go_wp2
    go_ret
    rw [HDD.out]
    exact ⟨rfl, Below.refl _ _⟩
end Go.Proofs.YtiandidencnlcaaDoor
/- Contracts of the helpers Exact (the document's) and Same (the statements'), where both sides are alike. -/
namespace Go.Proofs.YtiandidencnlcaaDoor
open Go.RowKit

theorem sames_self : ∀ l : List Fld, sames l l = true
  | [] => rfl
  | x :: r => by rw [sames, sames_self r, alike]; simp
def ExR (w : World) (n : Nat) (i : Value) (wr : World) : Prop := ∃ k : Nat, k ≤ n ∧ i = .int .i64 (k : Int) ∧ Below w.heap.size w wr
set_option maxRecDepth 100000 in
set_option maxHeartbeats 4000000 in
theorem rexact_same (A B : Option Addr) (l : List Fld) (n c d : Nat) (w : World) (hA : AtF w w.heap.size A l) (hB : AtF w w.heap.size B l) (hl : l.length = n) (hn : n ≤ 1000000) : Calls Tryd.prog 21 #[.slice A n c, .slice B n d] w (BoolPost w true) := by
  have HS := rsame_any A B l l n n c d w hA hB hl hl hn
  rw [sames_self] at HS
  replace HS := Lib.hid HS
  have HA := Lib.hid fun (W : World) (hb : Below w.heap.size w W) => hA.up hb
  have HB := Lib.hid fun (W : World) (hb : Below w.heap.size w W) => hB.up hb
  have HL := Lib.hid hl
  clear hA hB hl
  go_enter Tryd.func21, Tryd.ntmps21
  go_wp2_with fail
  with_reducible refine (HS.out).mono ?_
  rintro e w1 ⟨rfl, hb1⟩
  have hr0 : ExR w n (.int .i64 0) w1 := ⟨0, Nat.zero_le _, rfl, hb1⟩
  clear HS hb1
  go_wp2
  go_loopw [5] (fun i wr => ExR w n i wr) (fun i _ => n - (intOf i).toNat)
  case atStart => exact hr0
  case round =>
    clear hr0
    obtain ⟨k, hk, rfl, hbw⟩ := hrel
    by_cases hlt : k < n
    · have ki : (k : Int) < (n : Int) := by omega
      have hkl : k < l.length := by have := HL.out; omega
      obtain ⟨b1, o1, e1, _, hc1⟩ := HA.out wr hbw (fun h => by rw [h] at hkl; simp at hkl)
      obtain ⟨b2, o2, e2, _, hc2⟩ := HB.out wr hbw (fun h => by rw [h] at hkl; simp at hkl)
      have y2 := (hc1 k hkl).2.2
      have z2 := (hc2 k hkl).2.2
      subst e1 e2
      generalize l[k].never = Z at y2 z2
      have q : (Z != Z) = false := by simp
      clear hc1 hc2 hkl
      go_wp2
      go_quiet (fail)
      go_wp2
      go_roundw
      case rel => exact ⟨k + 1, by omega, by go_num, below_drewN hbw _⟩
      case measure => simp [intOf]; omega
    · obtain rfl : k = n := by omega
      have ki : ¬ (k : Int) < (k : Int) := by omega
      go_wp2
      go_ret
      exact ⟨rfl, hbw⟩
def SaR (w : World) (n : Nat) (i : Value) (wr : World) : Prop := ∃ k : Nat, k ≤ n ∧ i = .int .i64 ((k + 1 : Nat) : Int) ∧ Below w.heap.size w wr
set_option maxRecDepth 100000 in
set_option maxHeartbeats 8000000 in
theorem usame_any (w : World) (S T : Nat → Prop) (t q m : Nat) (L : List Fld) (hR : Rdy w) (hD : DT w S t m L) (hT : RT w T q m L) (hL : tot L ≤ 4096) : Calls Tryd.prog 17 #[.pointer (some ⟨t, 0, none⟩), .pointer (some ⟨q, 0, none⟩)] w (BoolPost w true) := by
  have HR := Lib.hid fun (W : World) (hb : Below w.heap.size w W) => hR.below hb
  have HD := Lib.hid fun (W : World) (hb : Below w.heap.size w W) => hD.keep (S' := fun _ => False) (Keeps.of_below hb) (fun _ _ h => h)
  have hql := hT.lt
  have htp := tot_pos L
  obtain ⟨⟨A7, c7, hh7, hat7, hA7, hc7, _⟩, _⟩ := hT
  obtain ⟨n, hn⟩ : ∃ n, n = L.length := ⟨_, rfl⟩
  rw [← hn] at hh7 htp
  have HN := Lib.hid hn
  have x0 : w.cell? ⟨q, 0, none⟩ = some (.int .i64 (m : Int)) := cell_of_row _ q 0 _ 70 _ hh7
  have x1 : w.cell? ⟨q, 1, none⟩ = some (.slice A7 n c7) := cell_of_row _ q 1 _ 70 _ hh7
  have HX0 := Lib.hid fun (W : World) (hb : Below w.heap.size w W) => (hb.cell (p := ⟨q, 0, none⟩) hql).trans x0
  have HX1 := Lib.hid fun (W : World) (hb : Below w.heap.size w W) => (hb.cell (p := ⟨q, 1, none⟩) hql).trans x1
  have HAT := Lib.hid fun (W : World) (hb : Below w.heap.size w W) => hat7.up hb
  have hbd : Below w.heap.size w w.drew := (Below.refl _ _).drew
  have h1 := fun (W : World) (hb : Below w.heap.size w W) => dlen_f W S t m L (HR.out W hb) (HD.out W hb)
  rw [← hn] at h1
  have H1 := Lib.hid h1
  have H2 := Lib.hid fun (W : World) (hb : Below w.heap.size w W) => dmost_f W S t m L (HR.out W hb) (HD.out W hb)
  have t1 : ((n : Int) != (n : Int)) = false := by simp
  have t2 : ((m : Int) != (m : Int)) = false := by simp
  have hnb : n ≤ 128 := by omega
  clear hR hD h1 hn hh7 hat7 hA7 hc7 htp hql hL
  go_enter Tryd.func17, Tryd.ntmps17
  go_wp2
  go_region_held3 (fun w' => w'.cell? ⟨q, 0, none⟩ = some (.int .i64 (m : Int)) ∧ w'.cell? ⟨q, 1, none⟩ = some (.slice A7 n c7))
    (first
      | exact ⟨x0, x1⟩
      | exact ⟨HX0.out _ hb6, HX1.out _ hb6⟩
      | exact ⟨HX0.out _ hb5, HX1.out _ hb5⟩)
    (first
      | ((with_reducible refine (H1.out _ hbd).mono ?_); rintro e w5 ⟨rfl, hb5'⟩; have hb5 := hbd.trans (hb5'.mono hbd.size))
      | ((with_reducible refine (H2.out _ hb5).mono ?_); rintro e w6 ⟨rfl, hb6'⟩; have hb6 := hb5.trans (hb6'.mono hb5.size)))
  have hr0 : SaR w n (.int .i64 1) w6 := ⟨0, Nat.zero_le _, rfl, hb6⟩
  clear x0 x1 hbd hb5 hb5' hb6 hb6' t1 t2 H1 H2
  go_wp2
  go_loopw [5, 6, 7] (fun i _ _ wr => SaR w n i wr) (fun i _ _ _ => n + 1 - (intOf i).toNat)
  case atStart => exact hr0
  case round =>
    clear hr0
    obtain ⟨k, hk, rfl, hbw⟩ := hrel
    have x1 := HX1.out wr hbw
    obtain ⟨J, hJ⟩ : ∃ J, J = k + 1 := ⟨_, rfl⟩
    rw [show ((k + 1 : Nat) : Int) = (J : Int) by omega]
    have HJ := Lib.hid hJ
    by_cases hlt : k < n
    · have ki : (J : Int) ≤ (n : Int) := by omega
      have hkl : k < L.length := by have := HN.out; omega
      have hg := dget_f wr S t m L (J : Int) (HR.out wr hbw) (HD.out wr hbw) (by unfold Rng; omega)
      have hge : getL L (J : Int) = (L[k], true) := by
        rw [getL, if_pos (by omega), show (J : Int).toNat - 1 = k by omega, List.getD, List.getElem?_eq_getElem hkl]
        rfl
      rw [hge] at hg
      obtain ⟨f, hf⟩ : ∃ f, f = L[k] := ⟨_, rfl⟩
      rw [← hf] at hg
      have HF := Lib.hid fun (W : World) (hb : Below w.heap.size w W) => (show ∃ b o, A7 = some ⟨b, o, none⟩ ∧ W.cell? ⟨b, o + k * 3, none⟩ = some (.string f.name) ∧ W.cell? ⟨b, o + k * 3 + 1, none⟩ = some (.string f.value) ∧ W.cell? ⟨b, o + k * 3 + 2, none⟩ = some (.bool f.never) by
        obtain ⟨b, o, e, _, hc⟩ := HAT.out W hb (fun h => by rw [h] at hkl; simp at hkl)
        have := hc k hkl
        rw [← hf] at this
        exact ⟨b, o, e, this⟩)
      obtain ⟨X, Y, Z⟩ := f
      simp only [] at hg HF
      replace hg := Lib.hid hg
      have ej : (J : Int) - 1 = (k : Int) := by omega
      have kn : (k : Int) < (n : Int) := by omega
      clear hge hf hJ hkl
      go_wp2_with fail
      with_reducible refine (hg.out).mono ?_
      rintro e w7 ⟨rfl, hb7⟩
      simp only []
      obtain ⟨wb, hwb⟩ : ∃ wb, wb = w7.alloc (.cells #[.string X, .string Y, .bool Z] 52) := ⟨_, rfl⟩
      have hb8 : Below wr.heap.size wr wb := by rw [hwb]; exact hb7.alloc hb7.size _
      have hb9 := hbw.trans (hb8.mono hbw.size)
      obtain ⟨b, o, e7, y0, y1, y2⟩ := HF.out wb hb9
      subst e7
      have x1b := HX1.out wb hb9
      rw [hwb] at y0 y1 y2 x1b hb9
      clear hb7 hb8 hwb x1 hg
      go_wp2
      go_quiet (fail)
      go_wp2
      go_roundw
      case rel => exact ⟨k + 1, by omega, by have := HJ.out; go_num, below_drewN hb9 _⟩
      case measure => simp [intOf]; have := HJ.out; omega
    · obtain rfl : k = n := by omega
      have ki : ¬ (J : Int) ≤ (k : Int) := by omega
      clear hJ
      go_wp2
      go_ret
      exact ⟨rfl, hbw⟩
end Go.Proofs.YtiandidencnlcaaDoor
/- Contract of wlvref.Bytes. -/
namespace Go.Proofs.YtiandidencnlcaaDoor
open Go.RowKit

theorem bytes_any (A A' : Option Addr) (l l' : List Nat) (n n' c c' : Nat) (w : World) (B B' : Nat) (h : At .u8 w B A l) (h' : At .u8 w B' A' l') (hb : ∀ x ∈ l, x < 256) (hb' : ∀ x ∈ l', x < 256) (hn : l.length = n) (hn' : l'.length = n') :
    Calls Tryd.prog 16 #[.slice A n c, .slice A' n' c'] w fun e w' => e = .returned (.bool (decide (l = l'))) ∧ w = w' := by
  subst hn hn'
  have h1 := run_str w _ A l c h
  have h2 := run_str w _ A' l' c' h'
  rw [← str_eq l l' hb hb']
  clear h h' hb hb'
  go_enter Tryd.func16, Tryd.ntmps16
  go_wp2
  go_ret
  exact ⟨rfl, rfl⟩
end Go.Proofs.YtiandidencnlcaaDoor
/- An int that came in lies in its range. -/
namespace Go.Proofs.YtiandidencnlcaaDoor
open Go.RowKit
theorem rng_of {i : Int} (h : (Lit.int .i64 i).wf = true) : Rng i := by
  have := bounds_i64 h
  unfold Rng
  omega
end Go.Proofs.YtiandidencnlcaaDoor
