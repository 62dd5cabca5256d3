/- Contracts of the program's small functions on words: RotateLeft32, turned, turnedAndShifted, wordAt. -/
import Derived.Test.YthaecckneblecaaDoorBlock
namespace Go.Proofs.YthaecckneblecaaDoor
open Go.RowKit Sh
theorem wrap_neg (n : Nat) (h0 : 1 ≤ n) (hn : n ≤ 31) : IntKind.u64.wrap (-(n : Int)) = ((18446744073709551616 - n : Nat) : Int) := by
  have e : ∀ z : Int, IntKind.u64.wrap z = z % 18446744073709551616 := fun z => by simp [IntKind.wrap, IntKind.bits, IntKind.signed]
  rw [e]
  omega
theorem and31 (n s : Nat) (h0 : 1 ≤ n) (hn : n ≤ 31) (hs : s + n = 32) : bits BinOp.and IntKind.u64 (IntKind.u64.wrap (-(n : Int))) 31 = (s : Int) := by
  rw [wrap_neg n h0 hn]
  have e := u64_and_nat (18446744073709551616 - n) 31 (by omega) (by omega)
  have e2 : (18446744073709551616 - n) &&& 31 = s := by
    rw [show (31 : Nat) = 2 ^ 5 - 1 from rfl, Nat.and_two_pow_sub_one_eq_mod]
    omega
  rw [e2] at e
  exact e
theorem rotl_bits (x n s : Nat) (hs : s + n = 32) (hx : x < 4294967296) : bits BinOp.or IntKind.u32 ((x : Int) * 2 ^ s % 4294967296) ((x : Int) / 2 ^ (32 - s)) = ((rot x n : Nat) : Int) := by
  have e1 : (x : Int) / 2 ^ (32 - s) = ((x / 2 ^ n : Nat) : Int) := by
    rw [show 32 - s = n by omega, show ((2 : Int) ^ n) = ((2 ^ n : Nat) : Int) by simp, ← Int.natCast_ediv]
  have e2 : (x : Int) * 2 ^ s % 4294967296 = ((x * 2 ^ (32 - n) % 4294967296 : Nat) : Int) := by
    rw [show s = 32 - n by omega, show ((2 : Int) ^ (32 - n)) = ((2 ^ (32 - n) : Nat) : Int) by simp]
    simp
  rw [e1, e2, u32_or_nat _ _ (Nat.mod_lt _ (by omega)) (Nat.lt_of_le_of_lt (Nat.div_le_self _ _) hx), Nat.or_comm]
  rfl
set_option maxHeartbeats 1000000 in
theorem rotl_any (x n : Nat) (w : World) (hx : x < 4294967296) (h0 : 1 ≤ n) (hn : n ≤ 31) : Calls Tryd.prog 30 #[.int .u32 x, .int .i64 (-(n : Int))] w fun e w' => e = .returned (.int .u32 ((rot x n : Nat) : Int)) ∧ w = w' := by
  obtain ⟨s, hs⟩ : ∃ s, s = 32 - n := ⟨_, rfl⟩
  have ha := and31 n s h0 hn (by omega)
  have s1 : 1 ≤ s := by omega
  have s2 : s ≤ 31 := by omega
  have HS : Hid (s + n = 32) := Lib.hid (by omega)
  clear hs
  go_enter Tryd.func30, Tryd.ntmps30
  go_wp2
  go_ret
  exact ⟨ret_int (rotl_bits x n s HS.out hx), rfl⟩
theorem rotl_at (x n : Nat) (i : Int) (R : Nat) (w : World) (hi : i = -(n : Int)) (hx : x < 4294967296) (h0 : 1 ≤ n) (hn : n ≤ 31) (hR : R = rot x n) : Calls Tryd.prog 30 #[.int .u32 x, .int .i64 i] w fun e w' => e = .returned (.int .u32 (R : Int)) ∧ w' = w := by
  subst hi
  subst hR
  exact (rotl_any x n w hx h0 hn).mono fun _ _ h => ⟨h.1, h.2.symm⟩
set_option maxHeartbeats 1000000 in
theorem turned_any (x i j k T : Nat) (w : World) (hx : x < 4294967296) (hi0 : 1 ≤ i) (hi : i ≤ 31) (hj0 : 1 ≤ j) (hj : j ≤ 31) (hk0 : 1 ≤ k) (hk : k ≤ 31) (hT : T = rot x i ^^^ rot x j ^^^ rot x k) :
    Calls Tryd.prog 26 #[.int .u32 x, .int .i64 i, .int .i64 j, .int .i64 k] w fun e w' => e = .returned (.int .u32 (T : Int)) ∧ w' = w := by
  obtain ⟨R1, h1⟩ : ∃ R, R = rot x i := ⟨_, rfl⟩
  obtain ⟨R2, h2⟩ : ∃ R, R = rot x j := ⟨_, rfl⟩
  obtain ⟨R3, h3⟩ : ∃ R, R = rot x k := ⟨_, rfl⟩
  have l1 : R1 < 4294967296 := by rw [h1]; exact rot_lt _ _ hx
  have l2 : R2 < 4294967296 := by rw [h2]; exact rot_lt _ _ hx
  have l3 : R3 < 4294967296 := by rw [h3]; exact rot_lt _ _ hx
  obtain ⟨a, ha⟩ : ∃ a, a = R1 ^^^ R2 := ⟨_, rfl⟩
  have la : a < 4294967296 := by rw [ha]; exact xor_lt l1 l2
  have x1 := xor_rule l1 l2 ha
  have hT' : T = a ^^^ R3 := by rw [hT, ha, h1, h2, h3]
  have x2 := xor_rule la l3 hT'
  have C1 := Lib.hid fun w => rotl_at x i (-(i : Int)) R1 w rfl hx hi0 hi h1
  have C2 := Lib.hid fun w => rotl_at x j (-(j : Int)) R2 w rfl hx hj0 hj h2
  have C3 := Lib.hid fun w => rotl_at x k (-(k : Int)) R3 w rfl hx hk0 hk h3
  clear h1 h2 h3 ha hT hT'
  go_enter Tryd.func26, Tryd.ntmps26
  go_wp2_with fail
  with_reducible refine (C1.out _).mono ?_
  rintro e w' ⟨rfl, rfl⟩
  go_wp2_with fail
  with_reducible refine (C2.out _).mono ?_
  rintro e w' ⟨rfl, rfl⟩
  go_wp2_with fail
  with_reducible refine (C3.out _).mono ?_
  rintro e w' ⟨rfl, rfl⟩
  go_wp2
  go_ret
  exact ⟨rfl, rfl⟩
/-- Reading does not turn the world, but for the tape. -/
def Drawn (v : Value) (w : World) (e : Ending) (w' : World) : Prop := e = .returned v ∧ ∃ n, w' = w.drewN n
set_option maxHeartbeats 1000000 in
theorem shifted7 (x T : Nat) (w : World) (hx : x < 4294967296) (hT : T = rot x 7 ^^^ rot x 18 ^^^ (x / 8)) :
    Calls Tryd.prog 29 #[.int .u32 x, .int .i64 7, .int .i64 18, .int .i64 3] w (Drawn (.int .u32 (T : Int)) w) := by
  obtain ⟨R1, h1⟩ : ∃ R, R = rot x 7 := ⟨_, rfl⟩
  obtain ⟨R2, h2⟩ : ∃ R, R = rot x 18 := ⟨_, rfl⟩
  obtain ⟨R3, h3⟩ : ∃ R, R = x / 8 := ⟨_, rfl⟩
  have l1 : R1 < 4294967296 := by rw [h1]; exact rot_lt _ _ hx
  have l2 : R2 < 4294967296 := by rw [h2]; exact rot_lt _ _ hx
  have l3 : R3 < 4294967296 := by omega
  obtain ⟨a, ha⟩ : ∃ a, a = R1 ^^^ R2 := ⟨_, rfl⟩
  have la : a < 4294967296 := by rw [ha]; exact xor_lt l1 l2
  have x1 := xor_rule l1 l2 ha
  have hT' : T = a ^^^ R3 := by rw [hT, ha, h1, h2, h3]
  have x2 := xor_rule la l3 hT'
  have x3 : (x : Int) / 8 = (R3 : Int) := shr_rule 8 h3
  have C1 := Lib.hid fun w => rotl_at x 7 (-7) R1 w rfl hx (by omega) (by omega) h1
  have C2 := Lib.hid fun w => rotl_at x 18 (-18) R2 w rfl hx (by omega) (by omega) h2
  clear h1 h2 h3 ha hT hT'
  go_enter Tryd.func29, Tryd.ntmps29
  go_wp2
  refine wp_region_still_lit (by kernel_rfl) (by kernel_rfl) ?_
  repeat still_step
  still_call (C1.out _)
  repeat still_step
  still_call (C2.out _)
  repeat still_step
  refine wpStill_nil ?_
  go_wp2
  go_ret
  exact ⟨rfl, 1, rfl⟩
set_option maxHeartbeats 1000000 in
theorem shifted17 (x T : Nat) (w : World) (hx : x < 4294967296) (hT : T = rot x 17 ^^^ rot x 19 ^^^ (x / 1024)) :
    Calls Tryd.prog 29 #[.int .u32 x, .int .i64 17, .int .i64 19, .int .i64 10] w (Drawn (.int .u32 (T : Int)) w) := by
  obtain ⟨R1, h1⟩ : ∃ R, R = rot x 17 := ⟨_, rfl⟩
  obtain ⟨R2, h2⟩ : ∃ R, R = rot x 19 := ⟨_, rfl⟩
  obtain ⟨R3, h3⟩ : ∃ R, R = x / 1024 := ⟨_, rfl⟩
  have l1 : R1 < 4294967296 := by rw [h1]; exact rot_lt _ _ hx
  have l2 : R2 < 4294967296 := by rw [h2]; exact rot_lt _ _ hx
  have l3 : R3 < 4294967296 := by omega
  obtain ⟨a, ha⟩ : ∃ a, a = R1 ^^^ R2 := ⟨_, rfl⟩
  have la : a < 4294967296 := by rw [ha]; exact xor_lt l1 l2
  have x1 := xor_rule l1 l2 ha
  have hT' : T = a ^^^ R3 := by rw [hT, ha, h1, h2, h3]
  have x2 := xor_rule la l3 hT'
  have x3 : (x : Int) / 1024 = (R3 : Int) := shr_rule 1024 h3
  have C1 := Lib.hid fun w => rotl_at x 17 (-17) R1 w rfl hx (by omega) (by omega) h1
  have C2 := Lib.hid fun w => rotl_at x 19 (-19) R2 w rfl hx (by omega) (by omega) h2
  clear h1 h2 h3 ha hT hT'
  go_enter Tryd.func29, Tryd.ntmps29
  go_wp2
  refine wp_region_still_lit (by kernel_rfl) (by kernel_rfl) ?_
  repeat still_step
  still_call (C1.out _)
  repeat still_step
  still_call (C2.out _)
  repeat still_step
  refine wpStill_nil ?_
  go_wp2
  go_ret
  exact ⟨rfl, 1, rfl⟩
set_option maxHeartbeats 1000000 in
theorem wordAt_any (ab ao n N c r0 X : Nat) (m : List Nat) (w : World) (hc : ∀ i (h : i < m.length), w.cell? ⟨ab, ao + i, none⟩ = some (.int .u8 (m[i] : Int))) (hm : ∀ x ∈ m, x < 256) (hN : m.length = N) (hl : N ≤ 1000000) (hr : r0 = 4 * n) (hn : r0 + 4 ≤ N) (hX : X = word m n) :
    Calls Tryd.prog 28 #[.slice (some ⟨ab, ao, none⟩) N c, .int .i64 r0] w (Drawn (.int .u32 (X : Int)) w) := by
  have g : ∀ j, j < N → ∃ x : Nat, x < 256 ∧ x = m.getD j 0 ∧ w.cell? ⟨ab, ao + j, none⟩ = some (.int .u8 (x : Int)) := fun j hj => by
    have hjl : j < m.length := by omega
    exact ⟨m[j], hm _ (List.getElem_mem _), by simp [List.getD, hjl], hc j hjl⟩
  obtain ⟨x0, b0, e0, c0⟩ := g (4 * n) (by omega)
  obtain ⟨x1, b1, e1, c1⟩ := g (4 * n + 1) (by omega)
  obtain ⟨x2, b2, e2, c2⟩ := g (4 * n + 2) (by omega)
  obtain ⟨x3, b3, e3, c3⟩ := g (4 * n + 3) (by omega)
  obtain ⟨r1, hr1⟩ : ∃ r, r = 4 * n + 1 := ⟨_, rfl⟩
  obtain ⟨r2, hr2⟩ : ∃ r, r = 4 * n + 2 := ⟨_, rfl⟩
  obtain ⟨r3, hr3⟩ : ∃ r, r = 4 * n + 3 := ⟨_, rfl⟩
  rw [← hr] at c0
  rw [← hr1] at c1
  rw [← hr2] at c2
  rw [← hr3] at c3
  have w1 : IntKind.i64.wrap ((r0 : Int) + 1) = (r1 : Int) := by rw [IntWalk.i64_in _ (by omega)]; omega
  have w2 : IntKind.i64.wrap ((r0 : Int) + 2) = (r2 : Int) := by rw [IntWalk.i64_in _ (by omega)]; omega
  have w3 : IntKind.i64.wrap ((r0 : Int) + 3) = (r3 : Int) := by rw [IntWalk.i64_in _ (by omega)]; omega
  have l0 : r0 < N := by omega
  have l1 : r1 < N := by omega
  have l2 : r2 < N := by omega
  have l3 : r3 < N := by omega
  have i0 : (r0 : Int) < (N : Int) := by omega
  have i1 : (r1 : Int) < (N : Int) := by omega
  have i2 : (r2 : Int) < (N : Int) := by omega
  have i3 : (r3 : Int) < (N : Int) := by omega
  have k0 : IntKind.u32.wrap (x0 : Int) = (x0 : Int) := by rw [IntKind.wrap_u32']; omega
  have k1 : IntKind.u32.wrap (x1 : Int) = (x1 : Int) := by rw [IntKind.wrap_u32']; omega
  have k2 : IntKind.u32.wrap (x2 : Int) = (x2 : Int) := by rw [IntKind.wrap_u32']; omega
  have k3 : IntKind.u32.wrap (x3 : Int) = (x3 : Int) := by rw [IntKind.wrap_u32']; omega
  have m0 : IntKind.u32.wrap ((x0 : Int) * 16777216) = (x0 : Int) * 16777216 := by rw [IntKind.wrap_u32']; omega
  have m1 : IntKind.u32.wrap ((x1 : Int) * 65536) = (x1 : Int) * 65536 := by rw [IntKind.wrap_u32']; omega
  have m2 : IntKind.u32.wrap ((x2 : Int) * 256) = (x2 : Int) * 256 := by rw [IntKind.wrap_u32']; omega
  have hw := word_bits x0 x1 x2 x3 b0 b1 b2 b3
  have hX2 : x0 * 16777216 + x1 * 65536 + x2 * 256 + x3 = X := by rw [hX, word, ← e0, ← e1, ← e2, ← e3]
  rw [hX2] at hw
  clear hX hX2 hr hr1 hr2 hr3 e0 e1 e2 e3 g hc hm hN
  go_enter Tryd.func28, Tryd.ntmps28
  go_wp2
  refine wp_region_still_lit (by kernel_rfl) (by kernel_rfl) ?_
  repeat still_step
  refine wpStill_nil ?_
  go_wp2
  go_ret
  exact ⟨rfl, 1, rfl⟩
end Go.Proofs.YthaecckneblecaaDoor
