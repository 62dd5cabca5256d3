/- Contracts of the helpers Exact (the document's) and Same (the statements'), where both sides are alike. -/
import Derived.Test.YtlnppbnbjeakhaaDoorUUse
import Derived.Test.YtlnppbnbjeakhaaDoorSSame
import Derived.Deep.RegionHeld3
import Derived.BigQuiet
namespace Go.Proofs.YtlnppbnbjeakhaaDoor
open Go.RowKit

theorem sames_self : ∀ l : List Fld, sames l l = true
  | [] => rfl
  | x :: r => by rw [sames, sames_self r, alike]; simp
def ExR (w : World) (n : Nat) (i : Value) (wr : World) : Prop := ∃ k : Nat, k ≤ n ∧ i = .int .i64 (k : Int) ∧ Below w.heap.size w wr
set_option maxRecDepth 100000 in
set_option maxHeartbeats 4000000 in
theorem rexact_same (A B : Option Addr) (l : List Fld) (n c d : Nat) (w : World) (hA : AtF w w.heap.size A l) (hB : AtF w w.heap.size B l) (hl : l.length = n) (hn : n ≤ 1000000) : Calls Tryd.prog 13 #[.slice A n c, .slice B n d] w (BoolPost w true) := by
  have HS := rsame_any A B l l n n c d w hA hB hl hl hn
  rw [sames_self] at HS
  replace HS := Lib.hid HS
  have HA := Lib.hid fun (W : World) (hb : Below w.heap.size w W) => hA.up hb
  have HB := Lib.hid fun (W : World) (hb : Below w.heap.size w W) => hB.up hb
  have HL := Lib.hid hl
  clear hA hB hl
  go_enter Tryd.func13, Tryd.ntmps13
  go_wp2_with fail
  with_reducible refine (HS.out).mono ?_
  rintro e w1 ⟨rfl, hb1⟩
  have hr0 : ExR w n (.int .i64 0) w1 := ⟨0, Nat.zero_le _, rfl, hb1⟩
  clear HS hb1
  go_wp2
  go_loopw [5] (fun i wr => ExR w n i wr) (fun i _ => n - (intOf i).toNat)
  case atStart => exact hr0
  case round =>
    clear hr0
    obtain ⟨k, hk, rfl, hbw⟩ := hrel
    by_cases hlt : k < n
    · have ki : (k : Int) < (n : Int) := by omega
      have hkl : k < l.length := by have := HL.out; omega
      obtain ⟨b1, o1, e1, _, hc1⟩ := HA.out wr hbw (fun h => by rw [h] at hkl; simp at hkl)
      obtain ⟨b2, o2, e2, _, hc2⟩ := HB.out wr hbw (fun h => by rw [h] at hkl; simp at hkl)
      have y2 := (hc1 k hkl).2.2
      have z2 := (hc2 k hkl).2.2
      subst e1 e2
      generalize l[k].never = Z at y2 z2
      have q : (Z != Z) = false := by simp
      clear hc1 hc2 hkl
      go_wp2
      go_quiet (fail)
      go_wp2
      go_roundw
      case rel => exact ⟨k + 1, by omega, by go_num, below_drewN hbw _⟩
      case measure => simp [intOf]; omega
    · obtain rfl : k = n := by omega
      have ki : ¬ (k : Int) < (k : Int) := by omega
      go_wp2
      go_ret
      exact ⟨rfl, hbw⟩
def SaR (w : World) (n : Nat) (i : Value) (wr : World) : Prop := ∃ k : Nat, k ≤ n ∧ i = .int .i64 ((k + 1 : Nat) : Int) ∧ Below w.heap.size w wr
set_option maxRecDepth 100000 in
set_option maxHeartbeats 8000000 in
theorem usame_any (w : World) (S T : Nat → Prop) (t q m : Nat) (L : List Fld) (hR : Rdy w) (hD : DT w S t m L) (hT : RT w T q m L) (hL : tot L ≤ 4096) : Calls Tryd.prog 15 #[.pointer (some ⟨t, 0, none⟩), .pointer (some ⟨q, 0, none⟩)] w (BoolPost w true) := by
  have HR := Lib.hid fun (W : World) (hb : Below w.heap.size w W) => hR.below hb
  have HD := Lib.hid fun (W : World) (hb : Below w.heap.size w W) => hD.keep (S' := fun _ => False) (Keeps.of_below hb) (fun _ _ h => h)
  have hql := hT.lt
  have htp := tot_pos L
  obtain ⟨⟨A7, c7, hh7, hat7, hA7, hc7, _⟩, _⟩ := hT
  obtain ⟨n, hn⟩ : ∃ n, n = L.length := ⟨_, rfl⟩
  rw [← hn] at hh7 htp
  have HN := Lib.hid hn
  have x0 : w.cell? ⟨q, 0, none⟩ = some (.int .i64 (m : Int)) := cell_of_row _ q 0 _ 61 _ hh7
  have x1 : w.cell? ⟨q, 1, none⟩ = some (.slice A7 n c7) := cell_of_row _ q 1 _ 61 _ hh7
  have HX0 := Lib.hid fun (W : World) (hb : Below w.heap.size w W) => (hb.cell (p := ⟨q, 0, none⟩) hql).trans x0
  have HX1 := Lib.hid fun (W : World) (hb : Below w.heap.size w W) => (hb.cell (p := ⟨q, 1, none⟩) hql).trans x1
  have HAT := Lib.hid fun (W : World) (hb : Below w.heap.size w W) => hat7.up hb
  have hbd : Below w.heap.size w w.drew := (Below.refl _ _).drew
  have h1 := fun (W : World) (hb : Below w.heap.size w W) => dlen_f W S t m L (HR.out W hb) (HD.out W hb)
  rw [← hn] at h1
  have H1 := Lib.hid h1
  have H2 := Lib.hid fun (W : World) (hb : Below w.heap.size w W) => dmost_f W S t m L (HR.out W hb) (HD.out W hb)
  have t1 : ((n : Int) != (n : Int)) = false := by simp
  have t2 : ((m : Int) != (m : Int)) = false := by simp
  have hnb : n ≤ 128 := by omega
  clear hR hD h1 hn hh7 hat7 hA7 hc7 htp hql hL
  go_enter Tryd.func15, Tryd.ntmps15
  go_wp2
  go_region_held3 (fun w' => w'.cell? ⟨q, 0, none⟩ = some (.int .i64 (m : Int)) ∧ w'.cell? ⟨q, 1, none⟩ = some (.slice A7 n c7))
    (first
      | exact ⟨x0, x1⟩
      | exact ⟨HX0.out _ hb6, HX1.out _ hb6⟩
      | exact ⟨HX0.out _ hb5, HX1.out _ hb5⟩)
    (first
      | ((with_reducible refine (H1.out _ hbd).mono ?_); rintro e w5 ⟨rfl, hb5'⟩; have hb5 := hbd.trans (hb5'.mono hbd.size))
      | ((with_reducible refine (H2.out _ hb5).mono ?_); rintro e w6 ⟨rfl, hb6'⟩; have hb6 := hb5.trans (hb6'.mono hb5.size)))
  have hr0 : SaR w n (.int .i64 1) w6 := ⟨0, Nat.zero_le _, rfl, hb6⟩
  clear x0 x1 hbd hb5 hb5' hb6 hb6' t1 t2 H1 H2
  go_wp2
  go_loopw [5, 6, 7] (fun i _ _ wr => SaR w n i wr) (fun i _ _ _ => n + 1 - (intOf i).toNat)
  case atStart => exact hr0
  case round =>
    clear hr0
    obtain ⟨k, hk, rfl, hbw⟩ := hrel
    have x1 := HX1.out wr hbw
    obtain ⟨J, hJ⟩ : ∃ J, J = k + 1 := ⟨_, rfl⟩
    rw [show ((k + 1 : Nat) : Int) = (J : Int) by omega]
    have HJ := Lib.hid hJ
    by_cases hlt : k < n
    · have ki : (J : Int) ≤ (n : Int) := by omega
      have hkl : k < L.length := by have := HN.out; omega
      have hg := dget_f wr S t m L (J : Int) (HR.out wr hbw) (HD.out wr hbw) (by unfold Rng; omega)
      have hge : getL L (J : Int) = (L[k], true) := by
        rw [getL, if_pos (by omega), show (J : Int).toNat - 1 = k by omega, List.getD, List.getElem?_eq_getElem hkl]
        rfl
      rw [hge] at hg
      obtain ⟨f, hf⟩ : ∃ f, f = L[k] := ⟨_, rfl⟩
      rw [← hf] at hg
      have HF := Lib.hid fun (W : World) (hb : Below w.heap.size w W) => (show ∃ b o, A7 = some ⟨b, o, none⟩ ∧ W.cell? ⟨b, o + k * 3, none⟩ = some (.string f.name) ∧ W.cell? ⟨b, o + k * 3 + 1, none⟩ = some (.string f.value) ∧ W.cell? ⟨b, o + k * 3 + 2, none⟩ = some (.bool f.never) by
        obtain ⟨b, o, e, _, hc⟩ := HAT.out W hb (fun h => by rw [h] at hkl; simp at hkl)
        have := hc k hkl
        rw [← hf] at this
        exact ⟨b, o, e, this⟩)
      obtain ⟨X, Y, Z⟩ := f
      simp only [] at hg HF
      replace hg := Lib.hid hg
      have ej : (J : Int) - 1 = (k : Int) := by omega
      have kn : (k : Int) < (n : Int) := by omega
      clear hge hf hJ hkl
      go_wp2_with fail
      with_reducible refine (hg.out).mono ?_
      rintro e w7 ⟨rfl, hb7⟩
      simp only []
      obtain ⟨wb, hwb⟩ : ∃ wb, wb = w7.alloc (.cells #[.string X, .string Y, .bool Z] 44) := ⟨_, rfl⟩
      have hb8 : Below wr.heap.size wr wb := by rw [hwb]; exact hb7.alloc hb7.size _
      have hb9 := hbw.trans (hb8.mono hbw.size)
      obtain ⟨b, o, e7, y0, y1, y2⟩ := HF.out wb hb9
      subst e7
      have x1b := HX1.out wb hb9
      rw [hwb] at y0 y1 y2 x1b hb9
      clear hb7 hb8 hwb x1 hg
      go_wp2
      go_quiet (fail)
      go_wp2
      go_roundw
      case rel => exact ⟨k + 1, by omega, by have := HJ.out; go_num, below_drewN hb9 _⟩
      case measure => simp [intOf]; have := HJ.out; omega
    · obtain rfl : k = n := by omega
      have ki : ¬ (J : Int) ≤ (k : Int) := by omega
      clear hJ
      go_wp2
      go_ret
      exact ⟨rfl, hbw⟩
end Go.Proofs.YtlnppbnbjeakhaaDoor
