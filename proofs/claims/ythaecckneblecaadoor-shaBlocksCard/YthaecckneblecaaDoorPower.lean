/- Contracts of the reference's power, below and root. -/
import Derived.Test.YthaecckneblecaaDoorTimes
namespace Go.Proofs.YthaecckneblecaaDoor
open Go.RowKit Sh

def PwR (w : World) (D : Option Addr) (x : Nat) (b : List Nat) (n : Nat) (v i : Value) (wr : World) : Prop :=
  ∃ (j : Nat) (r : List Nat) (A : Option Addr) (c : Nat), j ≤ n ∧ i = .int .i64 j ∧ v = .slice A r.length c ∧ r.length = 3 * j + 1 ∧ At .u64 wr wr.heap.size A r ∧ Dg r ∧ V r = x ^ j ∧
    At .u64 wr wr.heap.size D b ∧ Below w.heap.size w wr
set_option maxHeartbeats 2000000 in
theorem power_any (x n : Nat) (w : World) (hx : x < 281474976710656) (hn : n ≤ 10) :
    Calls Tryd.prog 23 #[.int .u64 x, .int .i64 n] w (TmPost w (3 * n + 1) (x ^ n)) := by
  obtain ⟨y0, h0⟩ : ∃ y, y = x % 65536 := ⟨_, rfl⟩
  obtain ⟨y1, h1⟩ : ∃ y, y = x / 65536 % 65536 := ⟨_, rfl⟩
  obtain ⟨y2, h2⟩ : ∃ y, y = x / 4294967296 := ⟨_, rfl⟩
  have e0 : bits BinOp.and IntKind.u64 (x : Int) 65535 = (y0 : Int) := by
    rw [show (65535 : Int) = ((65535 : Nat) : Int) from rfl, u64_and_nat _ _ (by omega) (by omega), nat_mask16, h0]
  have e1 : bits BinOp.and IntKind.u64 ((x : Int) / 65536) 65535 = (y1 : Int) := by
    rw [show (65535 : Int) = ((65535 : Nat) : Int) from rfl, show (x : Int) / 65536 = ((x / 65536 : Nat) : Int) by simp, u64_and_nat _ _ (by omega) (by omega), nat_mask16, h1]
  have e2 : (x : Int) / 4294967296 = (y2 : Int) := by rw [h2]; simp
  have HV : Hid (V [y0, y1, y2] = x) := by apply Lib.hid; simp only [V]; omega
  have HD : Hid (Dg [y0, y1, y2]) := by
    apply Lib.hid
    intro z hz
    simp only [List.mem_cons, List.not_mem_nil, or_false] at hz
    rcases hz with rfl | rfl | rfl <;> omega
  clear h0 h1 h2
  go_enter Tryd.func23, Tryd.ntmps23
  go_wp2
  have hA1 : At .u64 ((w.alloc (.cells #[.int .u64 1] 34)).alloc (.cells #[.int .u64 (y0 : Int), .int .u64 (y1 : Int), .int .u64 (y2 : Int)] 34)) ((w.alloc (.cells #[.int .u64 1] 34)).alloc (.cells #[.int .u64 (y0 : Int), .int .u64 (y1 : Int), .int .u64 (y2 : Int)] 34)).heap.size (some ⟨w.heap.size, 0, none⟩) [1] :=
    ((At.new w [1] 34 (0, 0)).below ((Below.refl _ _).alloc (Nat.le_refl _) _) (Nat.le_refl _)).more (by simp)
  have hD1 : At .u64 ((w.alloc (.cells #[.int .u64 1] 34)).alloc (.cells #[.int .u64 (y0 : Int), .int .u64 (y1 : Int), .int .u64 (y2 : Int)] 34)) ((w.alloc (.cells #[.int .u64 1] 34)).alloc (.cells #[.int .u64 (y0 : Int), .int .u64 (y1 : Int), .int .u64 (y2 : Int)] 34)).heap.size (some ⟨w.heap.size + 1, 0, none⟩) [y0, y1, y2] := by
    have := At.new (k := .u64) (w.alloc (.cells #[.int .u64 1] 34)) [y0, y1, y2] 34 (0, 0)
    simpa [cn] using this
  have hB1 : Below w.heap.size w ((w.alloc (.cells #[.int .u64 1] 34)).alloc (.cells #[.int .u64 (y0 : Int), .int .u64 (y1 : Int), .int .u64 (y2 : Int)] 34)) := ((Below.refl _ _).alloc (Nat.le_refl _) _).alloc (by simp) _
  go_loopw [5, 7] (fun v i wr => PwR w (some ⟨w.heap.size + 1, 0, none⟩) x [y0, y1, y2] n v i wr) (fun _ i _ => n - (intOf i).toNat)
  case atStart => exact ⟨0, [1], _, _, Nat.zero_le _, rfl, rfl, rfl, hA1, fun z hz => by simp at hz; omega, rfl, hD1, hB1⟩
  case round =>
    clear hA1 hD1 hB1
    obtain ⟨j, r, A, c, hj, rfl, rfl, hl, hA, hdg, hV, hD, hbel⟩ := hrel
    have HL := Lib.hid hl
    have HR := Lib.hid hV
    have hl50 : r.length ≤ 50 := by omega
    clear hl hV
    by_cases hlt : j < n
    · go_wp2_with (go_at_call 27; refine (times_any A (some ⟨w.heap.size + 1, 0, none⟩) r [y0, y1, y2] c 3 wr hA hD hdg HD.out hl50 (by simp)).mono ?_; rintro e w2 ⟨r2, A2, c2, rfl, hl2, hA2, hd2, hV2, hb2⟩; have HL2 := Lib.hid hl2; have HV2 := Lib.hid hV2; clear hl2 hV2)
      go_roundw
      case rel =>
        refine ⟨j + 1, r2, A2, c2, by omega, by go_num, ?_, ?_, hA2, hd2, ?_, (hD.below hb2 (Nat.le_refl _)).more hb2.size, hbel.trans (hb2.mono hbel.size)⟩
        · rw [HL2.out]
          rfl
        · rw [HL2.out, HL.out]
          simp
          omega
        · rw [HV2.out, HR.out, HV.out, Nat.pow_succ]
      case measure => simp [intOf]; omega
    · obtain rfl : j = n := by omega
      go_wp2
      go_ret
      refine ⟨r, A, c, ?_, HL.out, hA, hdg, HR.out, hbel⟩
      rw [← HL.out]
      rfl
end Go.Proofs.YthaecckneblecaaDoor
