/- The landed Same. -/
import Derived.Test.YtlnppbnbjeakhaaDoorSSame
import Derived.Test.YtlnppbnbjeakhaaDoorLTab
namespace Go.Proofs.YtlnppbnbjeakhaaDoor
open Go.RowKit
set_option maxRecDepth 100000 in
set_option maxHeartbeats 4000000 in
theorem alike_s (f g : Fld) (w : World) : Calls Tryd.prog 35 #[.agg #[.string f.name, .string f.value, .bool f.never], .agg #[.string g.name, .string g.value, .bool g.never]] w (BoolPost w (alike f g)) := by
  obtain ⟨f1, f2, f3⟩ := f
  obtain ⟨g1, g2, g3⟩ := g
  unfold alike
  simp only []
  cases hN : f1.toList == g1.toList with
  | false =>
    go_enter Tryd.func35, Tryd.ntmps35
    go_wp2
    go_ret
    exact ⟨rfl, ((Below.refl _ _).alloc (Nat.le_refl _) _).alloc (by simp) _⟩
  | true =>
    cases hV : f2.toList == g2.toList with
    | false =>
      go_enter Tryd.func35, Tryd.ntmps35
      go_wp2
      go_ret
      exact ⟨rfl, ((Below.refl _ _).alloc (Nat.le_refl _) _).alloc (by simp) _⟩
    | true =>
      go_enter Tryd.func35, Tryd.ntmps35
      go_wp2
      go_ret
      exact ⟨rfl, ((Below.refl _ _).alloc (Nat.le_refl _) _).alloc (by simp) _⟩
set_option maxRecDepth 100000 in
set_option maxHeartbeats 4000000 in
theorem equal_s (A B : Option Addr) (a b : List Fld) (n m c d : Nat) (w : World) (hA : AtF w w.heap.size A a) (hB : AtF w w.heap.size B b) (hl : a.length = n) (hm : b.length = m) (hn : n ≤ 1000000) : Calls Tryd.prog 34 #[.slice A n c, .slice B m d, .func (.func 35) #[] #[]] w (BoolPost w (sames a b)) := by
  have HA := Lib.hid hA
  have HB := Lib.hid hB
  have HL := Lib.hid hl
  have HM := Lib.hid hm
  obtain ⟨D, hD⟩ : ∃ D, D = sames a b := ⟨_, rfl⟩
  rw [← hD]
  have HD := Lib.hid hD
  clear hA hB hl hm hD
  by_cases hnm : n = m
  · subst hnm
    go_enter Tryd.func34, Tryd.ntmps34
    go_wp2
    go_loopw [17] (fun i wr => SmR a b D w i wr) (fun i _ => n - (intOf i).toNat)
    case atStart => exact ⟨0, Nat.zero_le _, rfl, HD.out.symm, Below.refl _ _⟩
    case round =>
      obtain ⟨k, hk, rfl, hsm, hbw⟩ := hrel
      by_cases hlt : k < n
      · have hka : k < a.length := by have := HL.out; omega
        have hkb : k < b.length := by have := HM.out; omega
        obtain ⟨b1, o1, rfl, hb1, hc1⟩ := HA.out.pos (by omega)
        obtain ⟨b2, o2, rfl, hb2, hc2⟩ := HB.out.pos (by omega)
        obtain ⟨f, hf⟩ : ∃ f, f = a[k] := ⟨_, rfl⟩
        obtain ⟨g, hg⟩ : ∃ g, g = b[k] := ⟨_, rfl⟩
        obtain ⟨c0, c1, c2⟩ := hc1 k hka
        obtain ⟨e0, e1, e2⟩ := hc2 k hkb
        rw [← hf] at c0 c1 c2
        rw [← hg] at e0 e1 e2
        have x0 : wr.cell? ⟨b1, o1 + k * 3, none⟩ = some (.string f.name) := (hbw.cell (p := ⟨b1, o1 + k * 3, none⟩) hb1).trans c0
        have x1 : wr.cell? ⟨b1, o1 + k * 3 + 1, none⟩ = some (.string f.value) := (hbw.cell (p := ⟨b1, o1 + k * 3 + 1, none⟩) hb1).trans c1
        have x2 : wr.cell? ⟨b1, o1 + k * 3 + 2, none⟩ = some (.bool f.never) := (hbw.cell (p := ⟨b1, o1 + k * 3 + 2, none⟩) hb1).trans c2
        have y0 : wr.cell? ⟨b2, o2 + k * 3, none⟩ = some (.string g.name) := (hbw.cell (p := ⟨b2, o2 + k * 3, none⟩) hb2).trans e0
        have y1 : wr.cell? ⟨b2, o2 + k * 3 + 1, none⟩ = some (.string g.value) := (hbw.cell (p := ⟨b2, o2 + k * 3 + 1, none⟩) hb2).trans e1
        have y2 : wr.cell? ⟨b2, o2 + k * 3 + 2, none⟩ = some (.bool g.never) := (hbw.cell (p := ⟨b2, o2 + k * 3 + 2, none⟩) hb2).trans e2
        have HNX : Hid (D = (alike f g && sames (a.drop (k + 1)) (b.drop (k + 1)))) := Lib.hid (by
          rw [← hsm, List.drop_eq_getElem_cons hka, List.drop_eq_getElem_cons hkb, sames, hf, hg])
        have ki : (k : Int) < (n : Int) := by omega
        have l1 : b1 < wr.heap.size := Nat.lt_of_lt_of_le hb1 hbw.size
        have l2 : b2 < wr.heap.size := Nat.lt_of_lt_of_le hb2 hbw.size
        have hbb := hbw
        clear hc1 hc2 hka hkb hf hg c0 c1 c2 e0 e1 e2 hsm hbw hb1 hb2
        have HBB := Lib.hid hbb
        clear hbb
        go_wp2_with fail
        with_reducible refine (alike_s f g _).mono ?_
        rintro e w2 ⟨rfl, hb2⟩
        have hb3 := (HBB.out.alloc HBB.out.size (.cells #[.string f.name, .string f.value, .bool f.never] 44)).alloc (by have := HBB.out.size; simp; omega) (.cells #[.string g.name, .string g.value, .bool g.never] 44)
        have hb4 := hb3.trans (hb2.mono hb3.size)
        have HB4 := Lib.hid hb4
        clear hb2 hb3 hb4 x0 x1 x2 y0 y1 y2 l1 l2
        cases hal : alike f g with
        | false =>
          have HDD : Hid (D = false) := Lib.hid (by rw [HNX.out, hal]; rfl)
          go_wp2
          go_ret
          rw [HDD.out]
          exact ⟨rfl, HB4.out⟩
        | true =>
          have HDD : Hid (sames (a.drop (k + 1)) (b.drop (k + 1)) = D) := Lib.hid (by rw [HNX.out, hal]; rfl)
          go_wp2
          go_roundw
          case rel => exact ⟨k + 1, by have := HL.out; omega, by go_num, HDD.out, HB4.out⟩
          case measure => simp [intOf]; omega
      · obtain rfl : k = n := by have := HL.out; omega
        have HDD : Hid (D = true) := Lib.hid (by
          rw [← hsm, List.drop_of_length_le (by have := HL.out; omega), List.drop_of_length_le (by have := HM.out; omega)]
          rfl)
        clear hsm
        go_wp2
        go_ret
        rw [HDD.out]
        exact ⟨rfl, hbw⟩
  · have HDD : Hid (D = false) := Lib.hid (by
      rw [HD.out]
      cases h : sames a b with
      | false => rfl
      | true => exact absurd (by rw [← HL.out, ← HM.out]; exact sames_len h) hnm)
    have q : ((n : Int) != (m : Int)) = true := by simp; omega
    go_enter Tryd.func34, Tryd.ntmps34
    go_wp2
    go_ret
    rw [HDD.out]
    exact ⟨rfl, Below.refl _ _⟩
set_option maxRecDepth 100000 in
theorem same_s (A B : Option Addr) (a b : List Fld) (n m c d : Nat) (w : World) (hA : AtF w w.heap.size A a) (hB : AtF w w.heap.size B b) (hl : a.length = n) (hm : b.length = m) (hn : n ≤ 1000000) : Calls Tryd.prog 22 #[.slice A n c, .slice B m d] w (BoolPost w (sames a b)) := by
  go_enter Tryd.func22, Tryd.ntmps22
  go_wp2_with fail
  with_reducible refine (equal_s A B a b n m c d w hA hB hl hm hn).mono ?_
  rintro e w2 ⟨rfl, hb2⟩
  go_wp2
  go_ret
  exact ⟨rfl, hb2⟩
theorem ssame_f (A B : Option Addr) (a b : List Fld) (n m c d : Nat) (w : World) (_ : Rdy w) (hA : AtF w w.heap.size A a) (hB : AtF w w.heap.size B b) (hl : a.length = n) (hm : b.length = m) (_ : A = none → c = 0) (_ : B = none → d = 0) (_ : n ≤ c) (_ : m ≤ d) (_ : tot a ≤ 1000000) (_ : tot b ≤ 1000000) (hn : n ≤ 1000) (_ : m ≤ 1000) : Calls Tryd.prog 22 #[.slice A n c, .slice B m d] w (BoolPost w (sames a b)) := same_s A B a b n m c d w hA hB hl hm (by omega)
end Go.Proofs.YtlnppbnbjeakhaaDoor
