/- The landed parser: New, Left, Feed. -/
import Derived.Test.YtegcloapadippaaFObj
import Derived.Test.YtegcloapadippaaLAppW
import Derived.Test.YtegcloapadippaaLPost
import Derived.Deep.QuietTactic
import Derived.BigQuiet
namespace Go.Proofs.Ytegcloapadippaa
open Go.RowKit Fr

set_option maxRecDepth 100000 in
theorem fnew_f (room : Int) (w : World) (_ : -9223372036854775808 ≤ room ∧ room ≤ 9223372036854775807) : Calls Try.prog 15 #[.int .i64 room] w fun e w' => ∃ p S, e = .returned (.pointer (some ⟨p, 0, none⟩)) ∧ PD w' S p room [] ∧ (∀ x, S x → w.heap.size ≤ x) ∧ Below w.heap.size w w' := by
  go_enter Try.func15, Try.ntmps15
  go_wp2
  go_ret
  refine ⟨w.heap.size, fun x => x = w.heap.size ∨ (Value.slice none 0 0).ownBlock = some x, rfl, ⟨.slice none 0 0, [], 0, heap_alloc_new w _, World.ownsRow_nil _ _ _ _, rfl, Nat.le_refl _, fun k hk => by simp [Value.ownBlock] at hk, fun x => Iff.rfl⟩, fun x hx => ?_, (Below.refl _ _).alloc (Nat.le_refl _) _⟩
  rcases hx with rfl | hx
  · exact Nat.le_refl _
  · simp [Value.ownBlock] at hx
set_option maxRecDepth 100000 in
theorem fleft_f (w : World) (S : Nat → Prop) (p : Nat) (room : Int) (L : List Nat) (h : PD w S p room L) (hL : L.length ≤ 90000) : Calls Try.prog 19 #[.pointer (some ⟨p, 0, none⟩)] w (NumPost w L.length) := by
  obtain ⟨v, G, gone, hh, ho, hG, hg, hn, hS⟩ := h
  obtain ⟨m, hm⟩ : ∃ m, m = gone + L.length := ⟨_, rfl⟩
  rw [← hm] at ho
  obtain ⟨A, c, rfl⟩ := own_shape ho
  have x0 : w.cell? ⟨p, 0, none⟩ = some (.slice A m c) := cell_of_row _ p 0 _ 49 _ hh
  have x1 : w.cell? ⟨p, 1, none⟩ = some (.int .i64 (gone : Int)) := cell_of_row _ p 1 _ 49 _ hh
  obtain ⟨k, hk⟩ : ∃ k, k = L.length := ⟨_, rfl⟩
  rw [← hk] at hm hL hg ⊢
  have e1 : (m : Int) - (gone : Int) = (k : Int) := by omega
  have e2 : IntKind.i64.wrap (k : Int) = (k : Int) := IntWalk.i64_in _ (by omega)
  clear hh ho hG hn hS hk hm hg hL
  go_enter Try.func19, Try.ntmps19
  go_wp2
  go_quiet (fail)
  go_wp2
  go_ret
  exact ⟨rfl, below_drewN (Below.refl _ _) _⟩
set_option maxRecDepth 100000 in
set_option maxHeartbeats 4000000 in
theorem ffeed_f (A : Option Addr) (l : List Nat) (n c : Nat) (w : World) (S : Nat → Prop) (p : Nat) (room : Int) (L : List Nat) (h : PD w S p room L) (hA : At .u8 w w.heap.size A l) (_ : ∀ x ∈ l, x < 256) (hl : l.length = n) (hA0 : A = none → c = 0) (_ : n ≤ c) (_ : l ≠ [] → ∀ a, A = some a → ¬ S a.block) (_ : ∀ x ∈ L, x < 256) (hLn : L.length + n ≤ 90000) :
    Calls Try.prog 16 #[.pointer (some ⟨p, 0, none⟩), .slice A n c] w fun e w' => e = .returned (.tuple #[]) ∧ PPost S w p room (L ++ l) w' := by
  obtain ⟨v, G, gone, hh, ho, hG, hg, hn, hS⟩ := h
  have hp := lt_of_heapF hh
  have hGl : G.length = gone + L.length := by have := ho.1; simpa [cn] using this
  obtain ⟨m, hm⟩ : ∃ m, m = G.length := ⟨_, rfl⟩
  rw [← hGl] at ho
  obtain ⟨A0, c0, rfl⟩ := own_shape ho
  rw [← hm] at ho
  have x0 : w.cell? ⟨p, 0, none⟩ = some (.slice A0 G.length c0) := cell_of_row _ p 0 _ 49 _ hh
  rw [← hm] at x0
  have z0 : w.frozen? ⟨p, 0, none⟩ = false := frozen_of_row w p 0 _ 49 hh
  have HFIN : Hid (∀ v4 w4, w4.ownsRow 0 5 1 v4 (G ++ l).length (cn .u8 (G ++ l)) → w.grownBy w4 (Value.slice A0 m c0).ownBlock → (∀ j, v4.ownBlock = some j → (Value.slice A0 m c0).ownBlock = some j ∨ w.heap.size ≤ j) → w4.cell? ⟨p, 0, none⟩ = some (.slice A0 m c0) ∧ w4.frozen? ⟨p, 0, none⟩ = false ∧ PPost S w p room (L ++ l) (w4.setCell ⟨p, 0, none⟩ v4)) := Lib.hid (fun v4 w4 ho4 hg4 hb4 => by
    have hk4 : Keeps (fun x => (Value.slice A0 m c0).ownBlock = some x) w w4 := ⟨hg4.os, hg4.tape, hg4.output, hg4.size, fun k hk hn => hg4.block k hk (fun e => hn e.symm)⟩
    have hob2 : (Value.slice A0 G.length c0).ownBlock = (Value.slice A0 m c0).ownBlock := by rw [hm]
    rw [hob2] at hS
    have hnp : ¬ (Value.slice A0 m c0).ownBlock = some p := fun e => hn p (hob2 ▸ e) rfl
    have hp4 := (hk4.block p hp hnp).trans hh
    have hk5 : Keeps (fun x => x = p) w4 (w4.setCell ⟨p, 0, none⟩ v4) := (Keeps.refl (fun x => x = p) w4).setCell (S := fun x => x = p) (p := ⟨p, 0, none⟩) rfl _
    have hp5 : (w4.setCell ⟨p, 0, none⟩ v4).heap[p]? = some (.cells #[v4, .int .i64 (gone : Int), .int .i64 room] 49 (0, 0)) := by
      have := heap_setCell_same w4 p 0 _ 49 v4 hp4
      simpa using this
    have hv4p : ∀ k, v4.ownBlock = some k → k ≠ p := fun k hk e => by
      subst e
      rcases hb4 k hk with h1 | h1
      · exact hnp h1
      · omega
    refine ⟨(hk4.cell (p := ⟨p, 0, none⟩) hp hnp).trans x0, (hk4.frozen (p := ⟨p, 0, none⟩) hp hnp).trans z0, fun x => x = p ∨ v4.ownBlock = some x, ⟨v4, G ++ l, gone, hp5, ?_, ?_, ?_, hv4p, fun x => Iff.rfl⟩, fun x hx => ?_, ?_⟩
    · have := row_keeps ho4 hk5 (fun k hk e => hv4p k hk e)
      rw [show (G ++ l).length = gone + (L ++ l).length by simp only [List.length_append]; omega] at this
      exact this
    · rw [List.drop_append_of_le_length (by omega), hG]
    · simp only [List.length_append]; omega
    · rcases hx with h1 | h1
      · exact .inl ((hS x).2 (.inl h1))
      · rcases hb4 x h1 with h2 | h2
        · exact .inl ((hS x).2 (.inr h2))
        · exact .inr h2
    · have hkS : Keeps S w w4 := hk4.mono (fun x _ hx => (hS x).2 (.inr hx))
      exact hkS.trans hk5 (fun x hx _ => (hS x).2 (.inl hx)))
  have HO : Hid (w.ownsRow 0 5 1 (.slice A0 m c0) G.length (cn .u8 G)) := Lib.hid (by rw [← hm]; exact ho)
  have HA := Lib.hid hA
  have HL := Lib.hid hl
  have HA0 := Lib.hid hA0
  have HLEN : Hid (G.length + l.length ≤ 1000000) := Lib.hid (by omega)
  clear hh ho hG hg hn hS hGl hm hA hl hA0 hLn hp
  go_enter Try.func16, Try.ntmps16
  go_wp2_with (at_builtin; refine wpList_append_aw rfl (.tmp 8) (.tmp 9) rfl 0 _ G rfl HO.out A l _ c HL.out rfl HA0.out _ HA.out HLEN.out (Nat.zero_le _) ?_; intro v4 w4 ho4 hg4 hb4; obtain ⟨ck, fz, hfin⟩ := HFIN.out v4 w4 ho4 hg4 hb4; obtain ⟨A5, c5, hv⟩ := own_shape ho4; obtain ⟨m5, hm5⟩ : ∃ m5, m5 = (G ++ l).length := ⟨_, rfl⟩; rw [← hm5] at hv; subst hv; have HEND := Lib.hid hfin; clear hfin ho4 hg4 hb4 hm5)
  go_wp2
  go_end0
  exact ⟨rfl, HEND.out⟩
end Go.Proofs.Ytegcloapadippaa
