/- Contract of the reference's Same. -/
import Derived.Test.YtlnppbnbjeakhaaDoorSSize
namespace Go.Proofs.YtlnppbnbjeakhaaDoor
open Go.RowKit

def alike (f g : Fld) : Bool := f.name.toList == g.name.toList && f.value.toList == g.value.toList
def sames : List Fld → List Fld → Bool
  | [], [] => true
  | x :: r, y :: s => alike x y && sames r s
  | _, _ => false
theorem sames_len : ∀ {a b : List Fld}, sames a b = true → a.length = b.length
  | [], [], _ => rfl
  | [], _ :: _, h => by simp [sames] at h
  | _ :: _, [], h => by simp [sames] at h
  | x :: r, y :: s, h => by
    simp only [sames, Bool.and_eq_true] at h
    rw [List.length_cons, List.length_cons, sames_len h.2]
def SmR (a b : List Fld) (D : Bool) (w : World) (i : Value) (wr : World) : Prop := ∃ k : Nat, k ≤ a.length ∧ i = .int .i64 (k : Int) ∧ sames (a.drop k) (b.drop k) = D ∧ Below w.heap.size w wr
set_option maxRecDepth 100000 in
set_option maxHeartbeats 4000000 in
theorem rsame_any (A B : Option Addr) (a b : List Fld) (n m c d : Nat) (w : World) (hA : AtF w w.heap.size A a) (hB : AtF w w.heap.size B b) (hl : a.length = n) (hm : b.length = m) (hn : n ≤ 1000000) : Calls Tryd.prog 30 #[.slice A n c, .slice B m d] w (BoolPost w (sames a b)) := by
  have HA := Lib.hid hA
  have HB := Lib.hid hB
  have HL := Lib.hid hl
  have HM := Lib.hid hm
  obtain ⟨D, hD⟩ : ∃ D, D = sames a b := ⟨_, rfl⟩
  rw [← hD]
  have HD := Lib.hid hD
  clear hA hB hl hm hD
  by_cases hnm : n = m
  · subst hnm
    go_enter Tryd.func30, Tryd.ntmps30
    go_wp2
    go_loopw [5] (fun i wr => SmR a b D w i wr) (fun i _ => n - (intOf i).toNat)
    case atStart => exact ⟨0, Nat.zero_le _, rfl, HD.out.symm, Below.refl _ _⟩
    case round =>
      obtain ⟨k, hk, rfl, hsm, hbw⟩ := hrel
      by_cases hlt : k < n
      · have hka : k < a.length := by have := HL.out; omega
        have hkb : k < b.length := by have := HM.out; omega
        obtain ⟨b1, o1, rfl, hb1, hc1⟩ := HA.out.pos (by omega)
        obtain ⟨b2, o2, rfl, hb2, hc2⟩ := HB.out.pos (by omega)
        obtain ⟨f, hf⟩ : ∃ f, f = a[k] := ⟨_, rfl⟩
        obtain ⟨g, hg⟩ : ∃ g, g = b[k] := ⟨_, rfl⟩
        obtain ⟨c0, c1, c2⟩ := hc1 k hka
        obtain ⟨e0, e1, e2⟩ := hc2 k hkb
        rw [← hf] at c0 c1
        rw [← hg] at e0 e1
        have x0 : wr.cell? ⟨b1, o1 + k * 3, none⟩ = some (.string f.name) := (hbw.cell (p := ⟨b1, o1 + k * 3, none⟩) hb1).trans c0
        have x1 : wr.cell? ⟨b1, o1 + k * 3 + 1, none⟩ = some (.string f.value) := (hbw.cell (p := ⟨b1, o1 + k * 3 + 1, none⟩) hb1).trans c1
        have y0 : wr.cell? ⟨b2, o2 + k * 3, none⟩ = some (.string g.name) := (hbw.cell (p := ⟨b2, o2 + k * 3, none⟩) hb2).trans e0
        have y1 : wr.cell? ⟨b2, o2 + k * 3 + 1, none⟩ = some (.string g.value) := (hbw.cell (p := ⟨b2, o2 + k * 3 + 1, none⟩) hb2).trans e1
        have HNX : Hid (D = (alike f g && sames (a.drop (k + 1)) (b.drop (k + 1)))) := Lib.hid (by
          rw [← hsm, List.drop_eq_getElem_cons hka, List.drop_eq_getElem_cons hkb, sames, hf, hg])
        have ki : (k : Int) < (n : Int) := by omega
        obtain ⟨f1, f2, f3⟩ := f
        obtain ⟨g1, g2, g3⟩ := g
        simp only [] at x0 x1 y0 y1
        clear hc1 hc2 hka hkb hf hg c0 c1 c2 e0 e1 e2 hsm
        cases hN : f1.toList == g1.toList with
        | false =>
          have HDD : Hid (D = false) := Lib.hid (by rw [HNX.out, alike]; simp only []; rw [hN]; rfl)
          go_wp2
          go_quiet (fail)
          go_wp2
          go_ret
          rw [HDD.out]
          exact ⟨rfl, below_drewN hbw nq⟩
        | true =>
          cases hV : f2.toList == g2.toList with
          | false =>
            have HDD : Hid (D = false) := Lib.hid (by rw [HNX.out, alike]; simp only []; rw [hN, hV]; rfl)
            go_wp2
            go_quiet (fail)
            go_wp2
            go_ret
            rw [HDD.out]
            exact ⟨rfl, below_drewN hbw nq⟩
          | true =>
            have HDD : Hid (sames (a.drop (k + 1)) (b.drop (k + 1)) = D) := Lib.hid (by rw [HNX.out, alike]; simp only []; rw [hN, hV]; rfl)
            go_wp2
            go_quiet (fail)
            go_wp2
            go_roundw
            case rel => exact ⟨k + 1, by have := HL.out; omega, by go_num, HDD.out, below_drewN hbw nq⟩
            case measure => simp [intOf]; omega
      · obtain rfl : k = n := by have := HL.out; omega
        have HDD : Hid (D = true) := Lib.hid (by
          rw [← hsm, List.drop_of_length_le (by have := HL.out; omega), List.drop_of_length_le (by have := HM.out; omega)]
          rfl)
        clear hsm
        go_wp2
        go_ret
        rw [HDD.out]
        exact ⟨rfl, hbw⟩
  · have HDD : Hid (D = false) := Lib.hid (by
      rw [HD.out]
      cases h : sames a b with
      | false => rfl
      | true => exact absurd (by rw [← HL.out, ← HM.out]; exact sames_len h) hnm)
    have q : ((n : Int) != (m : Int)) = true := by simp; omega
    go_enter Tryd.func30, Tryd.ntmps30
    go_wp2
    go_ret
    rw [HDD.out]
    exact ⟨rfl, Below.refl _ _⟩
end Go.Proofs.YtlnppbnbjeakhaaDoor
