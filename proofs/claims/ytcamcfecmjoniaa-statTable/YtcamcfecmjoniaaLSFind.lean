/- The landed Find. -/
import Derived.Test.YtcamcfecmjoniaaLSTab
import Derived.Test.YtcamcfecmjoniaaSFind
import Derived.Test.YtcamcfecmjoniaaLRdy
namespace Go.Proofs.Ytcamcfecmjoniaa
open Go.RowKit St
/-- Ahead of place k: what is found first by name, and what is found from k on, give the whole. -/
def FlR (n v : ByteArray) (D : Nat × Nat) (w : World) (a b : Value) (wr : World) : Prop := ∃ N k : Nat, k ≤ 61 ∧ N ≤ 61 ∧ a = .int .i64 (N : Int) ∧ b = .int .i64 (k : Int) ∧ D = ((fnd n.toList v.toList (61 - k) k).1, if N = 0 then (fnd n.toList v.toList (61 - k) k).2 else N) ∧ Below w.heap.size w wr
set_option maxRecDepth 100000 in
set_option maxHeartbeats 4000000 in
theorem find_s (n v : ByteArray) (w : World) : Calls Try.prog 11 #[.string n, .string v] w (FdPost w (found n v)) := by
  obtain ⟨D, hD⟩ : ∃ D, D = found n v := ⟨_, rfl⟩
  rw [← hD]
  have HD := Lib.hid hD
  clear hD
  go_enter Try.func11, Try.ntmps11
  go_wp2_with fail
  with_reducible refine (table_any w).mono ?_
  rintro e w2 ⟨T, rfl, hT, hb2⟩
  have HT := Lib.hid hT
  clear hT
  go_wp2
  go_loopw [6, 10] (fun a i wr => FlR n v D w a i wr) (fun _ i _ => 61 - (intOf i).toNat)
  case atStart => exact ⟨0, 0, by omega, by omega, rfl, rfl, by rw [HD.out]; rfl, hb2⟩
  case round =>
    obtain ⟨N, k, hk, hN61, rfl, rfl, hsm, hbw⟩ := hrel
    by_cases h0 : k < 61
    · have HN : Hid (fnd n.toList v.toList (61 - k) k = if (nm k).toList == n.toList then (if (vl k).toList == v.toList then (k + 1, k + 1) else ((fnd n.toList v.toList (61 - (k + 1)) (k + 1)).1, k + 1)) else fnd n.toList v.toList (61 - (k + 1)) (k + 1)) := Lib.hid (by
        rw [show 61 - k = 61 - (k + 1) + 1 by omega, fnd])
      have hix := tab_index k h0 wr
      rw [← HT.out] at hix
      obtain ⟨X, hX⟩ : ∃ X, X = nm k := ⟨_, rfl⟩
      obtain ⟨Y, hY⟩ : ∃ Y, Y = vl k := ⟨_, rfl⟩
      rw [← hX, ← hY] at hix HN
      have HSM := Lib.hid hsm
      have ki : (k : Int) < 61 := by omega
      have HB := Lib.hid (hbw.alloc hbw.size (.cells #[.string X, .string Y, .bool false] 26))
      clear hX hY hsm hb2 hbw
      cases hN : X.toList == n.toList with
      | false =>
        have HN2 : Hid (fnd n.toList v.toList (61 - k) k = fnd n.toList v.toList (61 - (k + 1)) (k + 1)) := Lib.hid (by rw [HN.out, hN]; rfl)
        go_wp2
        go_roundw
        case rel => exact ⟨N, k + 1, by omega, hN61, rfl, by go_num, by rw [← HN2.out]; exact HSM.out, HB.out⟩
        case measure => simp [intOf]; omega
      | true =>
        cases hV : Y.toList == v.toList with
        | false =>
          have HN2 : Hid (fnd n.toList v.toList (61 - k) k = ((fnd n.toList v.toList (61 - (k + 1)) (k + 1)).1, k + 1)) := Lib.hid (by rw [HN.out, hN, hV]; rfl)
          by_cases hz : N = 0
          · have q0 : ((N : Int) == 0) = true := by simp; omega
            go_wp2
            go_roundw
            case rel => exact ⟨k + 1, k + 1, by omega, by omega, by go_num, by go_num, by rw [HSM.out, HN2.out, if_pos hz, if_neg (by omega)], HB.out⟩
            case measure => simp [intOf]; omega
          · have q0 : ((N : Int) == 0) = false := by simp; omega
            go_wp2
            go_roundw
            case rel => exact ⟨N, k + 1, by omega, hN61, rfl, by go_num, by rw [HSM.out, HN2.out, if_neg hz, if_neg hz], HB.out⟩
            case measure => simp [intOf]; omega
        | true =>
          have HN2 : Hid (fnd n.toList v.toList (61 - k) k = (k + 1, k + 1)) := Lib.hid (by rw [HN.out, hN, hV]; rfl)
          by_cases hz : N = 0
          · have q0 : ((N : Int) == 0) = true := by simp; omega
            have HE : Hid (D = (k + 1, k + 1)) := Lib.hid (by rw [HSM.out, HN2.out, if_pos hz])
            go_wp2
            go_ret2
            rw [HE.out]
            exact ⟨by go_num, HB.out⟩
          · have q0 : ((N : Int) == 0) = false := by simp; omega
            have HE : Hid (D = (k + 1, N)) := Lib.hid (by rw [HSM.out, HN2.out, if_neg hz])
            go_wp2
            go_ret2
            rw [HE.out]
            exact ⟨by go_num, HB.out⟩
    · obtain rfl : k = 61 := by omega
      have HE : Hid (D = (0, N)) := Lib.hid (by
        rw [hsm, show 61 - 61 = 0 from rfl, fnd]
        by_cases hz : N = 0
        · rw [if_pos hz, hz]
        · rw [if_neg hz])
      clear hsm
      go_wp2
      go_ret2
      rw [HE.out]
      exact ⟨rfl, hbw⟩
theorem sfind_f (n v : ByteArray) (w : World) (_ : Rdy w) (_ : n.size ≤ 140737488355328) (_ : v.size ≤ 140737488355328) : Calls Try.prog 11 #[.string n, .string v] w (FdPost w (found n v)) := find_s n v w
end Go.Proofs.Ytcamcfecmjoniaa
