/- The walk of SetsFault, whole. -/
import Derived.Test.YtkjdjicchmfljaaZFault
namespace Go.Proofs.Ytkjdjicchmfljaa
open Go.RowKit Zs
namespace setsFault
set_option maxRecDepth 100000 in
set_option maxHeartbeats 4000000 in
theorem out_1 (A : Option Addr) (n c : Nat) (at' : Int) (w : World) (h : 300 < n) : Calls Try.prog 6 #[.slice A n c, .int .i64 at'] w (YesZ w) := by
  have HFST := Lib.hid fun (W : World) => first13_any W
  have k0 : (300 : Int) < (n : Int) := by omega
  clear h
  go_enter Try.func6, Try.ntmps6
  have HB0 := Lib.hid (Below.refl w.heap.size w)
  go_wp2_with fail
  with_reducible refine (HFST.out w).mono ?_
  rintro e w1 ⟨rfl, hb1⟩
  have HB1 := Lib.hid (HB0.out.trans (hb1.mono HB0.out.size))
  clear hb1
  go_wp2_with fail
  with_reducible refine (HFST.out w1).mono ?_
  rintro e w2 ⟨rfl, hb2⟩
  have HB2 := Lib.hid (HB1.out.trans (hb2.mono HB1.out.size))
  clear hb2
  go_wp2_with fail
  go_ret
  exact ⟨rfl, HB2.out⟩
set_option maxRecDepth 100000 in
set_option maxHeartbeats 4000000 in
theorem out_2 (A : Option Addr) (n c : Nat) (at' : Int) (w : World) (h0 : ¬ 300 < n) (h : at' < 0) : Calls Try.prog 6 #[.slice A n c, .int .i64 at'] w (YesZ w) := by
  have HFST := Lib.hid fun (W : World) => first13_any W
  have k0 : ¬ (300 : Int) < (n : Int) := by omega
  clear h0
  go_enter Try.func6, Try.ntmps6
  have HB0 := Lib.hid (Below.refl w.heap.size w)
  go_wp2_with fail
  with_reducible refine (HFST.out w).mono ?_
  rintro e w1 ⟨rfl, hb1⟩
  have HB1 := Lib.hid (HB0.out.trans (hb1.mono HB0.out.size))
  clear hb1
  go_wp2_with fail
  with_reducible refine (HFST.out w1).mono ?_
  rintro e w2 ⟨rfl, hb2⟩
  have HB2 := Lib.hid (HB1.out.trans (hb2.mono HB1.out.size))
  clear hb2
  go_wp2_with fail
  go_ret
  exact ⟨rfl, HB2.out⟩
set_option maxRecDepth 100000 in
set_option maxHeartbeats 4000000 in
theorem out_3 (A : Option Addr) (n c : Nat) (at' : Int) (w : World) (h0 : ¬ 300 < n) (h1 : ¬ at' < 0) (h : (n : Int) < at') : Calls Try.prog 6 #[.slice A n c, .int .i64 at'] w (YesZ w) := by
  have HFST := Lib.hid fun (W : World) => first13_any W
  have k0 : ¬ (300 : Int) < (n : Int) := by omega
  clear h0
  go_enter Try.func6, Try.ntmps6
  have HB0 := Lib.hid (Below.refl w.heap.size w)
  go_wp2_with fail
  with_reducible refine (HFST.out w).mono ?_
  rintro e w1 ⟨rfl, hb1⟩
  have HB1 := Lib.hid (HB0.out.trans (hb1.mono HB0.out.size))
  clear hb1
  go_wp2_with fail
  with_reducible refine (HFST.out w1).mono ?_
  rintro e w2 ⟨rfl, hb2⟩
  have HB2 := Lib.hid (HB1.out.trans (hb2.mono HB1.out.size))
  clear hb2
  go_wp2_with fail
  go_ret
  exact ⟨rfl, HB2.out⟩
theorem flt_bad {l : List (Int × Int)} (h : (apply firstSt l).2.bad = true) : apply firstSt l = (zeroSt, ⟨true, true, (apply firstSt l).2.code⟩) := by
  have ⟨e1, e2⟩ := apply_bad l firstSt h
  generalize apply firstSt l = q at h e1 e2 ⊢
  obtain ⟨T, b, k, y⟩ := q
  simp only [] at h e1 e2
  subst e1; subst h; subst e2
  rfl
theorem walk_any (A : Option Addr) (l : List (Int × Int)) (n c : Nat) (at' : Int) (w : World) (hA : AtS w w.heap.size A l) (hl : l.length = n) (hc : A = none → c = 0) (hcl : n ≤ c) : Calls Try.prog 6 #[.slice A n c, .int .i64 at'] w (YesZ w) := by
  by_cases h0 : 300 < n
  · exact out_1 A n c at' w h0
  by_cases h1 : at' < 0
  · exact out_2 A n c at' w h0 h1
  by_cases h2 : (n : Int) < at'
  · exact out_3 A n c at' w h0 h1 h2
  obtain ⟨p, rfl⟩ : ∃ p : Nat, at' = (p : Int) := ⟨at'.toNat, by omega⟩
  have hp : p ≤ n := by omega
  have hsp := apply_spoilt (l.take p) (l.drop p) firstSt
  by_cases hb : (apply firstSt (l.take p)).2.bad = true
  · rw [if_pos hb, flt_bad hb] at hsp
    have hx : apply firstSt l = apply firstSt (l.take p) := by
      have := apply_app (l.take p) (l.drop p) firstSt
      rwa [List.take_append_drop, if_pos hb] at this
    exact walk_in A l n c p w _ _ _ _ _ hA hl hc hcl (by omega) hp (hx.trans (flt_bad hb)) (flt_bad hb) hsp (Or.inl ⟨rfl, rfl⟩)
  · rw [if_neg hb] at hsp
    have hg := apply_good (l.take p) firstSt (by simpa using hb)
    exact walk_in A l n c p w _ _ _ _ _ hA hl hc hcl (by omega) hp rfl rfl hsp (Or.inr ⟨hg, rfl⟩)
end setsFault
end Go.Proofs.Ytkjdjicchmfljaa
