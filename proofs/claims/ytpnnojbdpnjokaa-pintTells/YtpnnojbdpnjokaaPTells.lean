/- The walk of PintTells. -/
import Derived.Test.YtpnnojbdpnjokaaPFirst
import Derived.Test.YtpnnojbdpnjokaaLIn
namespace Go.Proofs.Ytpnnojbdpnjokaa
open Go.RowKit Pn

namespace pintTells
theorem walk_long (A : Option Addr) (h : Int) (b n : Int) (k c : Nat) (w : World) (hR : Rdy w) (hl : 1000 < k) : Calls Try.prog 3 #[.int .u8 h, .int .i64 b, .int .i64 n, .slice A k c] w (Yes w) := by
  have HR := Lib.hid hR
  clear hR
  have q1 : decide ((1000 : Int) < (k : Int)) = true := by simp; omega
  go_enter Try.func3, Try.ntmps3
  go_wp2_with fail
  with_reducible refine (first_any w HR.out).mono ?_
  rintro e w1 ⟨rfl, hb1⟩
  go_wp2_with fail
  with_reducible refine (first_any w1 (HR.out.below hb1)).mono ?_
  rintro e w2 ⟨rfl, hb2⟩
  go_wp2_with fail
  go_ret
  exact ⟨rfl, hb1.trans (hb2.mono hb1.size)⟩
set_option maxRecDepth 100000 in
set_option maxHeartbeats 4000000 in
theorem walk_short (A : Option Addr) (l : List Nat) (h : Nat) (b n : Int) (k c : Nat) (w : World) (hR : Rdy w) (hA : At .u8 w w.heap.size A l) (hb : ∀ x ∈ l, x < 256) (hl : l.length = k) (hc : A = none → c = 0) (hnc : k ≤ c) (hk : k ≤ 1000) (hh : h < 256) (hrb : Rng b) (hrn : Rng n) :
    Calls Try.prog 3 #[.int .u8 h, .int .i64 b, .int .i64 n, .slice A k c] w (Yes w) := by
  have HR := Lib.hid hR
  have HA := Lib.hid fun (w' : World) (hb : Below w.heap.size w w') => hA.up hb
  have HB := Lib.hid hb
  have HL := Lib.hid hl
  have HC := Lib.hid hc
  have HRB := Lib.hid hrb
  have HRN := Lib.hid hrn
  have q1 : decide ((1000 : Int) < (k : Int)) = false := by simp; omega
  obtain ⟨P, hP⟩ : ∃ P, P = putI h b n := ⟨_, rfl⟩
  obtain ⟨G, hG⟩ : ∃ G, G = getI l b := ⟨_, rfl⟩
  have HP := Lib.hid hP
  have HG := Lib.hid hG
  have HPB : Hid (∀ x ∈ P.1, x < 256) := Lib.hid (by rw [hP]; exact putI_byte h b n hh)
  obtain ⟨S, t⟩ := P
  obtain ⟨g1, g2, g3⟩ := G
  obtain ⟨M, hM⟩ : ∃ M, M = S.length := ⟨_, rfl⟩
  have HM := Lib.hid hM
  clear hR hA hb hl hc hrb hrn hP hG hM
  go_enter Try.func3, Try.ntmps3
  go_wp2_with fail
  with_reducible refine (first_any w HR.out).mono ?_
  rintro e w1 ⟨rfl, hb1⟩
  go_wp2_with fail
  with_reducible refine (put_f h b n w1 (HR.out.below hb1) hh HRB.out HRN.out).mono ?_
  rw [← HP.out]
  rintro e w2 ⟨A2, c2, rfl, hat2, _, _, hbn⟩
  have hb2 := hb1.trans (hbn.mono hb1.size)
  have H2 := Lib.hid hat2
  clear hb1 hbn hat2
  simp only []
  rw [← HM.out]
  go_wp2_with fail
  with_reducible refine (rput_any h b n w2 hh).mono ?_
  rw [← HP.out]
  rintro e w3 ⟨A3, c3, rfl, hat3, _, _, hbn⟩
  have hb3 := hb2.trans (hbn.mono hb2.size)
  have H3 := Lib.hid hat3
  have H23 := Lib.hid (H2.out.up hbn)
  clear hb2 hbn hat3 H2
  simp only []
  rw [← HM.out]
  go_wp2_with fail
  with_reducible refine (get_f A l k c b w3 (HR.out.below hb3) (HA.out _ hb3) HB.out HL.out HC.out hnc (by omega) HRB.out).mono ?_
  rw [← HG.out]
  rintro e w4 ⟨rfl, hbn⟩
  have hb4 := hb3.trans (hbn.mono hb3.size)
  have H34 := Lib.hid (H3.out.up hbn)
  have H24 := Lib.hid (H23.out.up hbn)
  clear hb3 hbn H3 H23
  go_wp2_with fail
  with_reducible refine (rget_any A l k c b w4 (HA.out _ hb4) HB.out HL.out (by omega)).mono ?_
  rw [← HG.out]
  rintro e w5 ⟨rfl, hbn⟩
  have hb5 := hb4.trans (hbn.mono hb4.size)
  have H35 := Lib.hid (H34.out.up hbn)
  have H25 := Lib.hid (H24.out.up hbn)
  clear hb4 hbn H34 H24
  go_wp2_with fail
  with_reducible refine (first_any w5 (HR.out.below hb5)).mono ?_
  rintro e w6 ⟨rfl, hbn⟩
  have hb6 := hb5.trans (hbn.mono hb5.size)
  have H36 := Lib.hid (H35.out.up hbn)
  have H26 := Lib.hid (H25.out.up hbn)
  clear hb5 hbn H35 H25
  have p1 : ((t : Int) == (t : Int)) = true := by simp
  have p2 : ((g1 : Int) == (g1 : Int)) = true := by simp
  have p3 : ((g2 : Int) == (g2 : Int)) = true := by simp
  have p4 : ((g3 : Int) == (g3 : Int)) = true := by simp
  go_wp2_with fail
  with_reducible refine (bytes_any A2 A3 S S M M c2 c3 w6 _ _ H26.out H36.out HPB.out HPB.out HM.out.symm HM.out.symm).mono ?_
  rw [decide_eq_true (rfl : S = S)]
  rintro e w' ⟨rfl, rfl⟩
  go_wp2_with fail
  go_ret
  exact ⟨rfl, hb6⟩
theorem walk (A : Option Addr) (l : List Nat) (h b n : Int) (c : Nat) (w : World) (hR : Rdy w) (hA : At .u8 w w.heap.size A l) (hb : ∀ x ∈ l, x < 256) (hc : A = none → c = 0) (hnc : l.length ≤ c) (hh : (Lit.int .u8 h).wf = true) (hrb : (Lit.int .i64 b).wf = true) (hrn : (Lit.int .i64 n).wf = true) :
    Calls Try.prog 3 #[.int .u8 h, .int .i64 b, .int .i64 n, .slice A l.length c] w (Yes w) := by
  by_cases hl : 1000 < l.length
  · exact walk_long A h b n _ c w hR hl
  · have hh' := bounds_u8 hh
    obtain ⟨h1, rfl⟩ : ∃ v : Nat, h = (v : Int) := ⟨h.toNat, by omega⟩
    exact walk_short A l h1 b n _ c w hR hA hb rfl hc hnc (by omega) (by omega) (bounds_i64 hrb) (bounds_i64 hrn)
end pintTells
end Go.Proofs.Ytpnnojbdpnjokaa
