/- The landed parser: drop. -/
import Derived.Test.YtegcloapadippaaLFFeed
import Derived.Test.YtegcloapadippaaLFSmall
namespace Go.Proofs.Ytegcloapadippaa
open Go.RowKit Fr

set_option maxRecDepth 100000 in
/-- Left, whatever is gone. -/
theorem fleft0 (w : World) (p m c gone : Nat) (A : Option Addr) (x0 : w.cell? ⟨p, 0, none⟩ = some (.slice A m c)) (x1 : w.cell? ⟨p, 1, none⟩ = some (.int .i64 (gone : Int))) (h : gone ≤ m) (hm : m ≤ 200000) : Calls Try.prog 19 #[.pointer (some ⟨p, 0, none⟩)] w fun e w' => e = .returned (.int .i64 ((m - gone : Nat) : Int)) ∧ Below w.heap.size w w' := by
  obtain ⟨k, hk⟩ : ∃ k, k = m - gone := ⟨_, rfl⟩
  rw [← hk]
  have e1 : (m : Int) - (gone : Int) = (k : Int) := by omega
  have e2 : IntKind.i64.wrap (k : Int) = (k : Int) := IntWalk.i64_in _ (by omega)
  clear h hm hk
  go_enter Try.func19, Try.ntmps19
  go_wp2
  go_quiet (fail)
  go_wp2
  go_ret
  exact ⟨rfl, below_drewN (Below.refl _ _) _⟩
set_option maxRecDepth 100000 in
set_option maxHeartbeats 4000000 in
theorem fdrop_any (w : World) (S : Nat → Prop) (p n : Nat) (room : Int) (L : List Nat) (h : PD w S p room L) (hn : n ≤ L.length) (hL : L.length ≤ 90000) : Calls Try.prog 24 #[.pointer (some ⟨p, 0, none⟩), .int .i64 (n : Int)] w fun e w' => e = .returned (.tuple #[]) ∧ PPost S w p room (L.drop n) w' := by
  obtain ⟨v, G, gone, hh, ho, hG, hg, hvp, hS⟩ := h
  have hp := lt_of_heapF hh
  have hGl : G.length = gone + L.length := by have := ho.1; simpa [cn] using this
  rw [← hGl] at ho
  obtain ⟨A, c, rfl⟩ := own_shape ho
  obtain ⟨m, hm⟩ : ∃ m, m = G.length := ⟨_, rfl⟩
  rw [← hm] at ho hh hvp hS
  have hmc := own_cap ho
  have hA0 := own_none ho
  obtain ⟨g2, hg2⟩ : ∃ g2, g2 = gone + n := ⟨_, rfl⟩
  have e1 : (gone : Int) + (n : Int) = (g2 : Int) := by omega
  have e2 : IntKind.i64.wrap (g2 : Int) = (g2 : Int) := IntWalk.i64_in _ (by omega)
  have x0 : w.cell? ⟨p, 0, none⟩ = some (.slice A m c) := cell_of_row _ p 0 _ 49 _ hh
  have x1 : w.cell? ⟨p, 1, none⟩ = some (.int .i64 (gone : Int)) := cell_of_row _ p 1 _ 49 _ hh
  have z1 : w.frozen? ⟨p, 1, none⟩ = false := frozen_of_row w p 1 _ 49 hh
  -- behind the first store
  obtain ⟨w1, hw1⟩ : ∃ w1, w1 = w.setCell ⟨p, 1, none⟩ (.int .i64 (g2 : Int)) := ⟨_, rfl⟩
  have hk1 : Keeps (fun x => x = p) w w1 := by rw [hw1]; exact (Keeps.refl (fun x => x = p) w).setCell (S := fun x => x = p) (p := ⟨p, 1, none⟩) rfl _
  have hh1 : w1.heap[p]? = some (.cells #[.slice A m c, .int .i64 (g2 : Int), .int .i64 room] 49 (0, 0)) := by
    rw [hw1]
    have := heap_setCell_same w p 1 _ 49 (.int .i64 (g2 : Int)) hh
    simpa using this
  have ho1 : w1.ownsRow 0 5 1 (.slice A m c) m (cn .u8 G) := row_keeps ho hk1 (fun k hk e => hvp k hk e)
  have hp1 : p < w1.heap.size := lt_of_heapF hh1
  have y0 : w1.cell? ⟨p, 0, none⟩ = some (.slice A m c) := cell_of_row _ p 0 _ 49 _ hh1
  have y1 : w1.cell? ⟨p, 1, none⟩ = some (.int .i64 (g2 : Int)) := cell_of_row _ p 1 _ 49 _ hh1
  have HY : Hid (∀ W, Below w1.heap.size w1 W → W.cell? ⟨p, 0, none⟩ = some (.slice A m c) ∧ W.cell? ⟨p, 1, none⟩ = some (.int .i64 (g2 : Int))) := Lib.hid (fun W hb => ⟨(hb.cell (p := ⟨p, 0, none⟩) hp1).trans y0, (hb.cell (p := ⟨p, 1, none⟩) hp1).trans y1⟩)
  have HLF : Hid (∀ W, Below w1.heap.size w1 W → Calls Try.prog 19 #[.pointer (some ⟨p, 0, none⟩)] W fun e w' => e = .returned (.int .i64 ((m - g2 : Nat) : Int)) ∧ Below W.heap.size W w') := Lib.hid (fun W hb => fleft0 W p m c g2 A (HY.out W hb).1 (HY.out W hb).2 (by omega) (by omega))
  obtain ⟨k, hk⟩ : ∃ k, k = m - g2 := ⟨_, rfl⟩
  rw [← hk] at HLF
  have HB1 : Hid (∀ W, Below w1.heap.size w1 W → W.heap[p]? = some (.cells #[.slice A m c, .int .i64 (g2 : Int), .int .i64 room] 49 (0, 0))) := Lib.hid (fun W hb => (hb.block p hp1).trans hh1)
  have HD : Hid (G.drop g2 = L.drop n) := Lib.hid (by rw [← hG, List.drop_drop, hg2])
  have HKE : Hid (∀ W, Below w1.heap.size w1 W → Keeps S w W) := Lib.hid (fun W hb => (hk1.trans (Keeps.of_below (S := fun x => x = p) hb) (fun x hx _ => hx)).mono (fun x _ hx => (hS x).2 (.inl hx)))
  -- where less is gone than is left
  have HSTAY : Hid (g2 < k → ∀ W, Below w1.heap.size w1 W → PPost S w p room (L.drop n) W) := Lib.hid (fun hlt W hb => by
    have hlen : g2 + (L.drop n).length = m := by rw [List.length_drop]; omega
    exact ⟨S, ⟨.slice A m c, G, g2, HB1.out W hb, by rw [hlen]; exact own_keep ho1 hb, HD.out, by rw [List.length_drop]; omega, hvp, hS⟩, fun x hx => .inl hx, HKE.out W hb⟩)
  -- where as much is gone
  obtain ⟨A2, hA2⟩ : ∃ A2, A2 = cutAt A c g2 := ⟨_, rfl⟩
  have hsl := fun (W : World) => slice_l A m c g2 k W (by omega) hk.symm
  rw [← hA2] at hsl
  have HCL : Hid (∀ W, Below w1.heap.size w1 W → Calls Try.prog 23 #[.slice A2 k (c - g2)] W (RowPost W.heap.size W (L.drop n))) := Lib.hid (fun W hb => by
    rw [hA2]
    exact bclone_any _ (L.drop n) k (c - g2) W (by rw [← HD.out]; exact ((At.of_own ho1).up hb).drop (by omega)) (by rw [List.length_drop]; omega) (cutAt_none hA0) (by omega))
  obtain ⟨c2, hc2⟩ : ∃ c2, c2 = c - g2 := ⟨_, rfl⟩
  rw [← hc2] at hsl HCL
  have HGO : Hid (∀ W A5 c5, Below w1.heap.size w1 W → W.ownsRow w1.heap.size 5 1 (.slice A5 k c5) (L.drop n).length (cn .u8 (L.drop n)) → PPost S w p room (L.drop n) ((W.setCell ⟨p, 0, none⟩ (.slice A5 k c5)).setCell ⟨p, 1, none⟩ (.int .i64 0))) := Lib.hid (fun W A5 c5 hb ho5 => by
    have hkq : Keeps (fun x => x = p) W ((W.setCell ⟨p, 0, none⟩ (.slice A5 k c5)).setCell ⟨p, 1, none⟩ (.int .i64 0)) := ((Keeps.refl (fun x => x = p) W).setCell (S := fun x => x = p) (p := ⟨p, 0, none⟩) rfl _).setCell (S := fun x => x = p) (p := ⟨p, 1, none⟩) rfl _
    have hW := HB1.out W hb
    have h5 : (W.setCell ⟨p, 0, none⟩ (.slice A5 k c5)).heap[p]? = some (.cells #[.slice A5 k c5, .int .i64 (g2 : Int), .int .i64 room] 49 (0, 0)) := by
      have := heap_setCell_same W p 0 _ 49 (.slice A5 k c5) hW
      simpa using this
    have h6 : ((W.setCell ⟨p, 0, none⟩ (.slice A5 k c5)).setCell ⟨p, 1, none⟩ (.int .i64 0)).heap[p]? = some (.cells #[.slice A5 k c5, .int .i64 ((0 : Nat) : Int), .int .i64 room] 49 (0, 0)) := by
      have := heap_setCell_same _ p 1 _ 49 (.int .i64 0) h5
      simpa using this
    have hnb : ∀ j, (Value.slice A5 k c5).ownBlock = some j → w1.heap.size ≤ j := own_block ho5
    have hnp : ∀ j, (Value.slice A5 k c5).ownBlock = some j → j ≠ p := fun j hj e => by have := hnb j hj; omega
    refine ⟨fun x => x = p ∨ (Value.slice A5 k c5).ownBlock = some x, ⟨.slice A5 k c5, L.drop n, 0, h6, ?_, rfl, Nat.zero_le _, hnp, fun x => Iff.rfl⟩, fun x hx => ?_, ?_⟩
    · rw [Nat.zero_add]
      exact row_keeps (own_more ho5 (Nat.zero_le _)) hkq (fun j hj e => hnp j hj e)
    · rcases hx with h1 | h1
      · exact .inl ((hS x).2 (.inl h1))
      · exact .inr (Nat.le_trans hk1.size (hnb x h1))
    · exact (HKE.out W hb).trans hkq (fun x hx _ => (hS x).2 (.inl hx)))
  have i1 : (g2 : Int) ≤ (m : Int) := by omega
  have i2 : (0 : Int) ≤ (g2 : Int) := by omega
  have HZ : Hid (∀ W, Below w1.heap.size w1 W → W.frozen? ⟨p, 0, none⟩ = false ∧ W.frozen? ⟨p, 1, none⟩ = false) := Lib.hid (fun W hb => ⟨frozen_of_row W p 0 _ 49 (HB1.out W hb), frozen_of_row W p 1 _ 49 (HB1.out W hb)⟩)
  have HW1 := Lib.hid hw1
  have HLD : Hid ((L.drop n).length = k) := Lib.hid (by rw [List.length_drop]; omega)
  have hd : Below w1.heap.size w1 w1.drew := (Below.refl _ _).drew
  clear hh ho hG hg hvp hS hp hGl hm hA0 hmc hg2 hk1 hh1 ho1 hp1 hk hA2 hc2 hw1 hn hL
  go_enter Try.func24, Try.ntmps24
  go_wp2
  rw [← HW1.out]
  clear x0 x1 z1
  go_region_held3 (fun w' => w'.cell? ⟨p, 0, none⟩ = some (.slice A m c) ∧ w'.cell? ⟨p, 1, none⟩ = some (.int .i64 (g2 : Int)))
    (first
      | exact ⟨y0, y1⟩
      | exact HY.out _ hb2)
    (first
      | ((with_reducible refine (HLF.out _ hd).mono ?_); rintro e w2 ⟨rfl, hb2'⟩; have hb2 : Below w1.heap.size w1 w2 := hd.trans (hb2'.mono hd.size)))
  have HB2 := Lib.hid hb2
  clear hd hb2 hb2' HLF y0 y1
  by_cases hge : (k : Int) ≤ (g2 : Int)
  · have HCW := Lib.hid (HCL.out w2.drew HB2.out.drew)
    obtain ⟨z0, z1⟩ := HZ.out w2 HB2.out
    obtain ⟨y0, y1⟩ := HY.out w2 HB2.out
    have hd : Below w2.heap.size w2 w2.drew := (Below.refl _ _).drew
    go_wp2
    go_region_with (first
      | ((with_reducible refine (HCW.out).mono ?_); rintro e w5 ⟨v5, rfl, hr5⟩; obtain ⟨A5, c5, hv5⟩ := own_shape hr5.1; rw [HLD.out] at hv5; subst hv5; have hb5 : Below w1.heap.size w1 w5 := HB2.out.drew.trans (hr5.2.mono HB2.out.drew.size); obtain ⟨z0, z1⟩ := HZ.out w5 hb5; obtain ⟨y0, y1⟩ := HY.out w5 hb5))
    all_goals
      have HFIN := Lib.hid (HGO.out w5 A5 c5 hb5 (by rw [HLD.out]; have := own_more hr5.1 HB2.out.drew.size; rwa [HLD.out] at this))
      clear hr5 hb5
      go_wp2
      go_end0
      exact ⟨rfl, HFIN.out⟩
  · have hlt : g2 < k := by omega
    have HFIN := Lib.hid (HSTAY.out hlt w2 HB2.out)
    clear hlt
    go_wp2
    go_end0
    exact ⟨rfl, HFIN.out⟩
end Go.Proofs.Ytegcloapadippaa
