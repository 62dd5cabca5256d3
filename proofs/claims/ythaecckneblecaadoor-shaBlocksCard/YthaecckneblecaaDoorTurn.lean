/- Contract of the reference's turn. -/
import Derived.Test.YthaecckneblecaaDoorMem
import Derived.Test.YthaecckneblecaaDoorSpec
namespace Go.Proofs.YthaecckneblecaaDoor
open Go.RowKit Sh
theorem rot_bits (x n : Nat) (hx : x < 4294967296) : bits BinOp.or IntKind.u32 ((x : Int) / 2 ^ n) ((x : Int) * 2 ^ (32 - n) % 4294967296) = ((rot x n : Nat) : Int) := by
  have e1 : (x : Int) / 2 ^ n = ((x / 2 ^ n : Nat) : Int) := by
    rw [show ((2 : Int) ^ n) = ((2 ^ n : Nat) : Int) by simp, ← Int.natCast_ediv]
  have e2 : (x : Int) * 2 ^ (32 - n) % 4294967296 = ((x * 2 ^ (32 - n) % 4294967296 : Nat) : Int) := by
    rw [show ((2 : Int) ^ (32 - n)) = ((2 ^ (32 - n) : Nat) : Int) by simp]
    simp
  rw [e1, e2, u32_or_nat _ _ (Nat.lt_of_le_of_lt (Nat.div_le_self _ _) hx) (Nat.mod_lt _ (by omega))]
  rfl
set_option maxHeartbeats 1000000 in
theorem turn_any (x n : Nat) (w : World) (hx : x < 4294967296) (hn : n ≤ 32) : Calls Tryd.prog 24 #[.int .u32 x, .int .i64 n] w fun e w' => e = .returned (.int .u32 ((rot x n : Nat) : Int)) ∧ w = w' := by
  go_enter Tryd.func24, Tryd.ntmps24
  go_wp2
  go_ret
  exact ⟨ret_int (rot_bits x n hx), rfl⟩
theorem turn_at (x n : Nat) (i : Int) (R : Nat) (w : World) (hi : i = (n : Int)) (hx : x < 4294967296) (hn : n ≤ 32) (hR : R = rot x n) : Calls Tryd.prog 24 #[.int .u32 x, .int .i64 i] w fun e w' => e = .returned (.int .u32 (R : Int)) ∧ w' = w := by
  subst hi
  subst hR
  exact (turn_any x n w hx hn).mono fun _ _ h => ⟨h.1, h.2.symm⟩
end Go.Proofs.YthaecckneblecaaDoor
