/- The walk of SetsLast, whole. -/
import Derived.Test.YtkjdjicchmfljaaZLastA
import Derived.Test.YtkjdjicchmfljaaZLastB
namespace Go.Proofs.Ytkjdjicchmfljaa
open Go.RowKit Zs
namespace setsLast
set_option maxRecDepth 100000 in
set_option maxHeartbeats 4000000 in
theorem out_1 (A : Option Addr) (n c : Nat) (at' : Int) (w : World) (h : 300 < n) : Calls Try.prog 4 #[.slice A n c, .int .i64 at'] w (YesZ w) := by
  have HFST := Lib.hid fun (W : World) => first13_any W
  have k0 : (300 : Int) < (n : Int) := by omega
  clear h
  go_enter Try.func4, Try.ntmps4
  have HB0 := Lib.hid (Below.refl w.heap.size w)
  go_wp2_with fail
  with_reducible refine (HFST.out w).mono ?_
  rintro e w1 ⟨rfl, hb1⟩
  have HB1 := Lib.hid (HB0.out.trans (hb1.mono HB0.out.size))
  clear hb1
  go_wp2_with fail
  with_reducible refine (HFST.out w1).mono ?_
  rintro e w2 ⟨rfl, hb2⟩
  have HB2 := Lib.hid (HB1.out.trans (hb2.mono HB1.out.size))
  clear hb2
  go_wp2_with fail
  go_ret
  exact ⟨rfl, HB2.out⟩
set_option maxRecDepth 100000 in
set_option maxHeartbeats 4000000 in
theorem out_2 (A : Option Addr) (n c : Nat) (at' : Int) (w : World) (h0 : ¬ 300 < n) (h : at' < 0) : Calls Try.prog 4 #[.slice A n c, .int .i64 at'] w (YesZ w) := by
  have HFST := Lib.hid fun (W : World) => first13_any W
  have k0 : ¬ (300 : Int) < (n : Int) := by omega
  clear h0
  go_enter Try.func4, Try.ntmps4
  have HB0 := Lib.hid (Below.refl w.heap.size w)
  go_wp2_with fail
  with_reducible refine (HFST.out w).mono ?_
  rintro e w1 ⟨rfl, hb1⟩
  have HB1 := Lib.hid (HB0.out.trans (hb1.mono HB0.out.size))
  clear hb1
  go_wp2_with fail
  with_reducible refine (HFST.out w1).mono ?_
  rintro e w2 ⟨rfl, hb2⟩
  have HB2 := Lib.hid (HB1.out.trans (hb2.mono HB1.out.size))
  clear hb2
  go_wp2_with fail
  go_ret
  exact ⟨rfl, HB2.out⟩
set_option maxRecDepth 100000 in
set_option maxHeartbeats 4000000 in
theorem out_3 (A : Option Addr) (n c : Nat) (at' : Int) (w : World) (h0 : ¬ 300 < n) (h1 : ¬ at' < 0) (h : (n : Int) < at') : Calls Try.prog 4 #[.slice A n c, .int .i64 at'] w (YesZ w) := by
  have HFST := Lib.hid fun (W : World) => first13_any W
  have k0 : ¬ (300 : Int) < (n : Int) := by omega
  clear h0
  go_enter Try.func4, Try.ntmps4
  have HB0 := Lib.hid (Below.refl w.heap.size w)
  go_wp2_with fail
  with_reducible refine (HFST.out w).mono ?_
  rintro e w1 ⟨rfl, hb1⟩
  have HB1 := Lib.hid (HB0.out.trans (hb1.mono HB0.out.size))
  clear hb1
  go_wp2_with fail
  with_reducible refine (HFST.out w1).mono ?_
  rintro e w2 ⟨rfl, hb2⟩
  have HB2 := Lib.hid (HB1.out.trans (hb2.mono HB1.out.size))
  clear hb2
  go_wp2_with fail
  go_ret
  exact ⟨rfl, HB2.out⟩
theorem flt_bad {l : List (Int × Int)} (h : (apply firstSt l).2.bad = true) : apply firstSt l = (zeroSt, ⟨true, true, (apply firstSt l).2.code⟩) := by
  have ⟨e1, e2⟩ := apply_bad l firstSt h
  generalize apply firstSt l = q at h e1 e2 ⊢
  obtain ⟨T, b, k, y⟩ := q
  simp only [] at h e1 e2
  subst e1; subst h; subst e2
  rfl
theorem walk_any (A : Option Addr) (l : List (Int × Int)) (n c : Nat) (at' : Int) (w : World) (hA : AtS w w.heap.size A l) (hl : l.length = n) (hcl : n ≤ c) : Calls Try.prog 4 #[.slice A n c, .int .i64 at'] w (YesZ w) := by
  by_cases h0 : 300 < n
  · exact out_1 A n c at' w h0
  by_cases h1 : at' < 0
  · exact out_2 A n c at' w h0 h1
  by_cases h2 : (n : Int) < at'
  · exact out_3 A n c at' w h0 h1 h2
  obtain ⟨p, rfl⟩ : ∃ p : Nat, at' = (p : Int) := ⟨at'.toNat, by omega⟩
  have hp : p ≤ n := by omega
  by_cases hb : (apply firstSt (l.take p)).2.bad = true
  · have hx : apply firstSt l = apply firstSt (l.take p) := by
      have := apply_app (l.take p) (l.drop p) firstSt
      rwa [List.take_append_drop, if_pos hb] at this
    exact in_bad A l n c p w _ hA hl hcl (by omega) hp (hx.trans (flt_bad hb)) (flt_bad hb)
  · have hy := apply_good (l.take p) firstSt (by simpa using hb)
    have hx : apply firstSt l = apply (apply firstSt (l.take p)).1 (l.drop p) := by
      have := apply_two (l.take p) (l.drop p) firstSt (by simpa using hb)
      rwa [List.take_append_drop] at this
    have hY : apply firstSt (l.take p) = ((apply firstSt (l.take p)).1, noFlt) := by rw [← hy]
    by_cases hc : (apply firstSt l).2.bad = true
    · exact in_spoilt A l n c p w _ _ hA hl hcl (by omega) hp (flt_bad hc) hY (hx.symm.trans (flt_bad hc))
    · have hX : apply firstSt l = ((apply firstSt l).1, noFlt) := by rw [← apply_good l firstSt (by simpa using hc)]
      exact in_loop A l n c p w _ _ hA hl hcl (by omega) hp hX hY (hx.symm.trans hX)
end setsLast
end Go.Proofs.Ytkjdjicchmfljaa
