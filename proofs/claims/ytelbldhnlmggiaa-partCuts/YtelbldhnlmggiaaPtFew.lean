/- first of stage 11; Read and what it hands back, as the walks have them. -/
import Derived.Test.YtelbldhnlmggiaaPtFace
import Derived.Test.YtelbldhnlmggiaaFFewT
namespace Go.Proofs.Ytelbldhnlmggiaa
open Go.RowKit Fr

/-- Read of a frame that says P, X. -/
theorem pread_is {k F S : Int} {l : List Nat} {n c : Nat} {A : Option Addr} {w : World} {R : Prt × Flt} (hA : At .u8 w w.heap.size A l) (hb : ∀ x ∈ l, x < 256) (hl : l.length = n) (hc : A = none → c = 0) (hcl : n ≤ c) (hn : n ≤ 90000) (hi : (-9223372036854775808 ≤ k ∧ k ≤ 9223372036854775807) ∧ (-9223372036854775808 ≤ F ∧ F ≤ 9223372036854775807) ∧ (-9223372036854775808 ≤ S ∧ S ≤ 9223372036854775807)) (hR : Fr.read ⟨k, F, S, l⟩ = R) :
    Calls Try.prog 9 #[.agg #[.int .i64 k, .int .i64 F, .int .i64 S, .slice A n c]] w (PtPost w R) := by
  subst hl hR
  exact pread_f ⟨⟨k, F, S, l⟩, A, c⟩ w ⟨hA, hb, hc, hcl, hi⟩ hn
set_option maxRecDepth 100000 in
set_option maxHeartbeats 4000000 in
theorem first11_any (w : World) : Calls Try.prog 7 #[] w (YesP w) := by
  have HU : Hid (Calls Try.prog 13 #[.int .i64 0, .int .i64 0] w (FrPost w ⟨8, 0, 0, num 0 4⟩)) := Lib.hid (pupdate_f 0 0 w (by omega) (by omega))
  go_enter Try.func7, Try.ntmps7
  go_wp2_with fail
  with_reducible refine (HU.out).mono ?_
  rintro e w1 ⟨A, c, rfl, hat, hA0, hcl, hb1⟩
  simp only [num_len] at hcl
  have HR := Lib.hid (pread_is (k := 8) (F := 0) (S := 0) hat (num_byte 0 4) (num_len 0 4) hA0 hcl (by omega) (by omega) read_update0)
  have HB1 := Lib.hid hb1
  clear hat hA0 hcl hb1 HU
  simp only [frm, num_len]
  go_wp2_with fail
  with_reducible refine (HR.out).mono ?_
  rintro e w2 ⟨A2, c2, B2, d2, rfl, _, _, _, _, _, _, _, _, hb2⟩
  have HB2 := Lib.hid (HB1.out.trans (hb2.mono HB1.out.size))
  clear hb2 HR
  simp only [wrong, prt, flt, noPrt, List.length_nil]
  go_wp2
  go_ret
  refine ⟨rfl, ?_⟩
  have hb3 := HB2.out
  have h1 : w.heap.size ≤ w2.heap.size := hb3.size
  have h2 : w.heap.size ≤ w2.heap.size + 1 := by omega
  repeat' (first | (with_reducible exact hb3) | (with_reducible exact h1) | (with_reducible exact h2) | (with_reducible refine Below.setCell ?_ ?_ _) | (with_reducible refine Below.alloc ?_ ?_ _) | (simp; omega))
end Go.Proofs.Ytelbldhnlmggiaa
