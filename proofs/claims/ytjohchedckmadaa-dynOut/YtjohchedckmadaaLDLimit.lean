/- The landed table: Limit. -/
import Derived.Test.YtjohchedckmadaaLDShrink
import Derived.Test.YtjohchedckmadaaLDNew
namespace Go.Proofs.Ytjohchedckmadaa
open Go.RowKit
theorem DPost0.then {S S1 : Nat → Prop} {w w1 w2 : World} {p m2 : Nat} {l2 : List Fld} (hS : ∀ x, S1 x → S x ∨ w.heap.size ≤ x) (hK : Keeps S w w1) (h : DPost0 S1 w1 p m2 l2 w2) : DPost0 S w p m2 l2 w2 := by
  obtain ⟨S2, hT, hS2, hK2⟩ := h
  refine ⟨S2, hT, fun x hx => ?_, hK.trans hK2 (fun x hx hlt => ?_)⟩
  · rcases hS2 x hx with h1 | h1
    · exact hS x h1
    · exact .inr (Nat.le_trans hK.size h1)
  · rcases hS x hx with h1 | h1
    · exact h1
    · omega
theorem fitI_nat (k : Nat) (l : List Fld) : fitI (k : Int) l = fitL k l := by rw [fitI, if_neg (by omega), Int.toNat_natCast]
/-- Another limit is laid into the table. -/
theorem DT0.most {S : Nat → Prop} {w : World} {p m k : Nat} {l : List Fld} (h : DT0 w S p m l) (hk : k ≤ 4096) : DT0 (w.setCell ⟨p, 1, none⟩ (.int .i64 (k : Int))) S p k l ∧ Keeps S w (w.setCell ⟨p, 1, none⟩ (.int .i64 (k : Int))) := by
  have hSp := h.own
  obtain ⟨v, hh, ho, hn, hS, ht, _⟩ := h
  have hkp : Keeps (fun x => x = p) w (w.setCell ⟨p, 1, none⟩ (.int .i64 (k : Int))) := (Keeps.refl (fun x => x = p) w).setCell (S := fun x => x = p) (p := ⟨p, 1, none⟩) rfl _
  refine ⟨⟨v, ?_, row_keeps ho hkp (fun k hk2 => hn k hk2), hn, hS, ht, hk⟩, hkp.mono (fun x _ hx => by subst hx; exact hSp)⟩
  have := heap_setCell_same w p 1 _ 53 (.int .i64 (k : Int)) hh
  simpa using this
set_option maxRecDepth 100000 in
set_option maxHeartbeats 4000000 in
theorem dlimit_ok (w : World) (S : Nat → Prop) (p m k : Nat) (l : List Fld) (_ : Rdy w) (h : DT w S p m l) (hk : k ≤ 4096) :
    Calls Try.prog 13 #[.pointer (some ⟨p, 0, none⟩), .int .i64 (k : Int)] w fun e w' => e = .returned (.int .i64 0) ∧ DPost S w p k (fitL k l) w' := by
  obtain ⟨h1, h2⟩ := DT0.most (k := k) h.1 hk
  have HSH := Lib.hid (dshrink_any _ S p k l (k : Int) h1)
  have HFIN := Lib.hid (fun (w2 : World) (hP : DPost0 S (w.setCell ⟨p, 1, none⟩ (.int .i64 (k : Int))) p k (fitI (k : Int) l) w2) => (DPost0.then (S := S) (fun _ hx => .inl hx) h2 hP))
  obtain ⟨⟨v, hh, _⟩, _⟩ := h
  have x1 : w.cell? ⟨p, 1, none⟩ = some (.int .i64 (m : Int)) := cell_of_row _ p 1 _ 53 _ hh
  have fz : w.frozen? ⟨p, 1, none⟩ = false := frozen_of_row w p 1 _ 53 hh
  clear h1 h2 hh
  go_enter Try.func13, Try.ntmps13
  go_wp2_with fail
  with_reducible refine (isMost_ok k w hk).mono ?_
  rintro e w1 ⟨rfl, rfl⟩
  go_wp2_with fail
  with_reducible refine (HSH.out).mono ?_
  rintro e w2 ⟨rfl, hP⟩
  have hfin := HFIN.out w2 hP
  rw [fitI_nat] at hfin
  have HF := Lib.hid (hfin.fit (fit_tot k l))
  clear x1 fz hP hfin
  go_wp2
  go_ret
  exact ⟨rfl, HF.out⟩
set_option maxRecDepth 100000 in
theorem dlimit_no (w : World) (S : Nat → Prop) (p m : Nat) (k : Int) (l : List Fld) (_ : Rdy w) (_ : DT w S p m l) (hk : k < 0 ∨ 4096 < k) (_ : Rng k) :
    Calls Try.prog 13 #[.pointer (some ⟨p, 0, none⟩), .int .i64 k] w fun e w' => e = .returned (.int .i64 1) ∧ Below w.heap.size w w' := by
  go_enter Try.func13, Try.ntmps13
  go_wp2_with fail
  with_reducible refine (isMost_no k w hk).mono ?_
  rintro e w1 ⟨rfl, rfl⟩
  go_wp2
  go_ret
  exact ⟨rfl, Below.refl _ _⟩
end Go.Proofs.Ytjohchedckmadaa
