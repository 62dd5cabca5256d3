/- Contract of the reference's num. -/
import Derived.Test.YtegcloapadippaaFMath
import Derived.Test.YtegcloapadippaaLMem
import Derived.Test.YtegcloapadippaaLPost
import Derived.Test.YtegcloapadippaaPBits
import Derived.Laws.Bits128
namespace Go.Proofs.Ytegcloapadippaa
open Go.RowKit Fr

theorem u8_low (n : Nat) : IntKind.u8.wrap (n : Int) = ((n % 256 : Nat) : Int) := by rw [IntKind.wrap_u8']; omega
def NmR (w : World) (v n : Nat) (o i : Value) (wr : World) : Prop := ∃ (k : Nat) (z : List Nat), k ≤ n ∧ i = .int .i64 ((k : Int) - 1) ∧ z ++ num v k = num v n ∧ z.length + k = n ∧ Row w.heap.size w z o wr
set_option maxRecDepth 100000 in
set_option maxHeartbeats 4000000 in
theorem rnum_any (v n : Nat) (w : World) (hn : n ≤ 4) : Calls Try.prog 21 #[.int .i64 (v : Int), .int .i64 (n : Int)] w (RowPost w.heap.size w (num v n)) := by
  go_enter Try.func21, Try.ntmps21
  go_wp2
  go_loopw [5, 6] (fun o i wr => NmR w v n o i wr) (fun _ i _ => (intOf i + 1).toNat)
  case atStart => exact ⟨n, [], Nat.le_refl _, by go_num, rfl, by simp, World.ownsRow_nil _ _ _ _, Below.refl _ _⟩
  case round =>
    obtain ⟨k, z, hk, rfl, hz, hzl, hrow⟩ := hrel
    obtain ⟨A8, c8, hv8⟩ := own_shape hrow.1
    subst hv8
    rcases Nat.eq_zero_or_pos k with h0 | h0
    · subst h0
      have hz2 : z = num v n := by simpa [num] using hz
      subst hz2
      go_wp2
      go_ret
      exact ⟨_, rfl, hrow⟩
    · obtain ⟨j, rfl⟩ : ∃ j, k = j + 1 := ⟨k - 1, by omega⟩
      have ej : ((j + 1 : Nat) : Int) - 1 = (j : Int) := by omega
      have j0 : (0 : Int) ≤ (j : Int) := by omega
      obtain ⟨d, hd⟩ : ∃ d, d = 8 * j := ⟨_, rfl⟩
      have e8 : (8 : Int) * (j : Int) = (d : Int) := by omega
      have hd3 : d ≤ 24 := by omega
      have wd : IntKind.i64.wrap (d : Int) = (d : Int) := IntWalk.i64_in _ (by omega)
      have wu : IntKind.u64.wrap (d : Int) = (d : Int) := by rw [IntKind.wrap_u64]; omega
      have hpow : 256 ^ j = 2 ^ d := by rw [hd, Nat.pow_mul]
      obtain ⟨P, hP⟩ : ∃ P, P = v / 256 ^ j := ⟨_, rfl⟩
      obtain ⟨x, hx⟩ : ∃ x, x = P % 256 := ⟨_, rfl⟩
      have e9 : (v : Int) / 2 ^ d = (P : Int) := by rw [hP, hpow]; simp
      have md : min d 64 = d := by omega
      have wx : IntKind.u8.wrap (P : Int) = (x : Int) := by rw [u8_low, hx]
      have hNX : z ++ [x] ++ num v j = num v n := by
        rw [← hz, num, ← hP, ← hx, List.append_assoc]
        rfl
      have HNX := Lib.hid hNX
      have HRW := Lib.hid hrow
      rw [ej]
      clear hz hNX hd hpow hP hx ej
      go_wp2_with (at_builtin; refine wpList_append_at rfl (.tmp 13) (.tmp 20) rfl w.heap.size _ z rfl (HRW.out.1.alloc _) (some ⟨wr.heap.size, 0, none⟩) [x] _ 1 rfl rfl (fun h => by cases h) _ (At.new wr [x] 5 (0, 0)) ?_ ?_ ?_; (rotate_right; intro v9 w9 hown9 hg9))
      · have hb9 := (HRW.out.2.alloc HRW.out.2.size _).grown hg9 (by have := HRW.out.2.size; simp; omega) (own_block HRW.out.1)
        have HB9 := Lib.hid hb9
        have HO9 := Lib.hid hown9
        clear hb9 hown9 hg9 hrow
        go_wp2
        go_roundw
        case rel => exact ⟨j, z ++ [x], by omega, rfl, HNX.out, by simp; omega, HO9.out, HB9.out⟩
        case measure => simp [intOf]
      all_goals first | (simp; omega) | (have := HRW.out.2.size; simp; omega) | simp
end Go.Proofs.Ytegcloapadippaa
