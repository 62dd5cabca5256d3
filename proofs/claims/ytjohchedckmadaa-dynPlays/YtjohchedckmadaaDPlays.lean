/- The walk of DynPlays. -/
import Derived.Test.YtjohchedckmadaaDTwo
namespace Go.Proofs.Ytjohchedckmadaa
open Go.RowKit

namespace dynPlays
set_option maxRecDepth 100000 in
set_option maxHeartbeats 4000000 in
theorem walk_not (mo : Int) (A : Option Addr) (l : List Opn) (n c : Nat) (w : World) (hR : Rdy w) (hA : AtO w w.heap.size A l) (hl : l.length = n) (hok : ∀ q ∈ l, q.fld.fit) (hf : few7 l = false) :
    Calls Try.prog 3 #[.int .i64 mo, .slice A n c] w (Yes w) := by
  have HR := Lib.hid fun (w' : World) (hb : Below w.heap.size w w') => hR.below hb
  have HFI := Lib.hid (first_any w hR)
  clear hR
  go_enter Try.func3, Try.ntmps3
  go_wp2_with fail
  with_reducible refine (HFI.out).mono ?_
  rintro e w1 ⟨rfl, hb1⟩
  have HF := few7_any A l n c w1 (hA.up hb1) hl hok
  rw [hf] at HF
  have HF := Lib.hid HF
  clear hA hl hok
  go_wp2_with fail
  with_reducible refine (HF.out).mono ?_
  rintro e w2 ⟨rfl, hbn⟩
  have hb2 := hb1.trans (hbn.mono hb1.size)
  have HF2 := Lib.hid (first_any w2 (HR.out _ hb2))
  clear HF hbn hb1
  go_wp2_with fail
  with_reducible refine (HF2.out).mono ?_
  rintro e w4 ⟨rfl, hbn⟩
  have hb4 := hb2.trans (hbn.mono hb2.size)
  go_wp2_with fail
  go_ret
  exact ⟨rfl, hb4⟩
set_option maxRecDepth 100000 in
set_option maxHeartbeats 4000000 in
theorem walk_no (mo : Int) (A : Option Addr) (l : List Opn) (n c : Nat) (w : World) (hR : Rdy w) (hA : AtO w w.heap.size A l) (hl : l.length = n) (hok : ∀ q ∈ l, q.fld.fit) (hf : few7 l = true) (hmo : mo < 0 ∨ 4096 < mo) :
    Calls Try.prog 3 #[.int .i64 mo, .slice A n c] w (Yes w) := by
  have HR := Lib.hid fun (w' : World) (hb : Below w.heap.size w w') => hR.below hb
  have HFI := Lib.hid (first_any w hR)
  have HRN := Lib.hid fun (w' : World) => rnew_no mo w' hmo
  have HMO := Lib.hid hmo
  clear hR hmo
  go_enter Try.func3, Try.ntmps3
  go_wp2_with fail
  with_reducible refine (HFI.out).mono ?_
  rintro e w1 ⟨rfl, hb1⟩
  have HF := few7_any A l n c w1 (hA.up hb1) hl hok
  rw [hf] at HF
  have HF := Lib.hid HF
  clear hA hl hok
  go_wp2_with fail
  with_reducible refine (HF.out).mono ?_
  rintro e w2 ⟨rfl, hbn⟩
  have hb2 := hb1.trans (hbn.mono hb1.size)
  have HN := Lib.hid (dnew_no mo w2 (HR.out _ hb2) HMO.out)
  clear HF hbn hb1
  go_wp2_with fail
  with_reducible refine (HN.out).mono ?_
  rintro e w3 ⟨rfl, hbn⟩
  have hb3 := hb2.trans (hbn.mono hb2.size)
  clear hb2 hbn HN
  go_wp2_with fail
  with_reducible refine (HRN.out w3).mono ?_
  rintro e w4 ⟨rfl, rfl⟩
  have hr0 : Below w.heap.size w w4 := hb3
  go_wp2
  go_loopw [9, 10, 11, 12, 13, 14, 15, 16, 17, 18, 19, 20, 21, 22, 23] (fun _ _ _ _ _ _ _ _ _ _ _ _ _ _ _ wr => Below w.heap.size w wr) (fun _ _ _ _ _ _ _ _ _ _ _ _ _ _ _ _ => 0)
  case atStart => exact hr0
  case round =>
    clear hr0 hb3
    have HF2 := Lib.hid (first_any wr (HR.out _ hrel))
    go_wp2_with fail
    with_reducible refine (HF2.out).mono ?_
    rintro e w4 ⟨rfl, hbn⟩
    have hb4 := hrel.trans (hbn.mono hrel.size)
    go_wp2_with fail
    go_ret
    exact ⟨rfl, hb4⟩
end dynPlays
end Go.Proofs.Ytjohchedckmadaa
