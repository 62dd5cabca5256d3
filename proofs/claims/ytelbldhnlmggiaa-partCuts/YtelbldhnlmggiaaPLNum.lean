/- The landed part's numbers: read from four bytes, put into four. -/
import Derived.Test.YtelbldhnlmggiaaPtFour
import Derived.Test.YtelbldhnlmggiaaPBits
import Derived.BigQuiet
import Derived.Laws.Bits128
namespace Go.Proofs.Ytelbldhnlmggiaa
open Go.RowKit Fr

theorem u8_lowP (n : Nat) : IntKind.u8.wrap (n : Int) = ((n % 256 : Nat) : Int) := by rw [IntKind.wrap_u8']; omega
theorem val4P (a b c d : Nat) : val [a, b, c, d] = ((a * 256 + b) * 256 + c) * 256 + d := by simp [val, vals]
theorem fourP (L : List Nat) (h : 4 ≤ L.length) : ∃ a0 a1 a2 a3 r, L = a0 :: a1 :: a2 :: a3 :: r := by
  match L, h with
  | a0 :: a1 :: a2 :: a3 :: r, _ => exact ⟨a0, a1, a2, a3, r, rfl⟩
set_option maxRecDepth 100000 in
set_option maxHeartbeats 4000000 in
theorem pnumber_any (A : Option Addr) (l : List Nat) (n c : Nat) (w : World) (hA : At .u8 w w.heap.size A l) (hb : ∀ x ∈ l, x < 256) (hl : l.length = n) (h4 : 4 ≤ n) : Calls Try.prog 29 #[.slice A n c] w fun e w' => e = .returned (.int .i64 (val (l.take 4) : Int)) ∧ ∃ k, w' = w.drewN k := by
  obtain ⟨k5, k6, k7, k8, r, hLL⟩ := fourP l (by omega)
  obtain ⟨b, o, rfl, hbl, hc⟩ := hA.pos (by omega)
  have hby : ∀ i (hi : i < l.length), l[i] < 256 := fun i hi => hb _ (List.getElem_mem hi)
  have q5 : k5 < 256 := by have := hby 0 (by omega); simpa [hLL] using this
  have q6 : k6 < 256 := by have := hby 1 (by omega); simpa [hLL] using this
  have q7 : k7 < 256 := by have := hby 2 (by omega); simpa [hLL] using this
  have q8 : k8 < 256 := by have := hby 3 (by omega); simpa [hLL] using this
  have y0 : w.cell? ⟨b, o, none⟩ = some (.int .u8 (k5 : Int)) := by have := hc 0 (by omega); simpa [hLL] using this
  have y1 : w.cell? ⟨b, o + 1, none⟩ = some (.int .u8 (k6 : Int)) := by have := hc 1 (by omega); simpa [hLL] using this
  have y2 : w.cell? ⟨b, o + 2, none⟩ = some (.int .u8 (k7 : Int)) := by have := hc 2 (by omega); simpa [hLL] using this
  have y3 : w.cell? ⟨b, o + 3, none⟩ = some (.int .u8 (k8 : Int)) := by have := hc 3 (by omega); simpa [hLL] using this
  obtain ⟨b0, hb0⟩ : ∃ b0, b0 = k5 * 16777216 := ⟨_, rfl⟩
  obtain ⟨b1, hb1⟩ : ∃ b1, b1 = k6 * 65536 := ⟨_, rfl⟩
  obtain ⟨b2, hb2⟩ : ∃ b2, b2 = k7 * 256 := ⟨_, rfl⟩
  obtain ⟨b01, hb01⟩ : ∃ b01, b01 = b0 + b1 := ⟨_, rfl⟩
  obtain ⟨b02, hb02⟩ : ∃ b02, b02 = b01 + b2 := ⟨_, rfl⟩
  obtain ⟨Q, hQ⟩ : ∃ Q, Q = b02 + k8 := ⟨_, rfl⟩
  have t0 : (k5 : Int) * 2 ^ 24 = (b0 : Int) := by rw [hb0]; simp
  have t0' : (k5 : Int) * 16777216 = (b0 : Int) := by rw [hb0]; simp
  have t1 : (k6 : Int) * 2 ^ 16 = (b1 : Int) := by rw [hb1]; simp
  have t1' : (k6 : Int) * 65536 = (b1 : Int) := by rw [hb1]; simp
  have t2 : (k7 : Int) * 2 ^ 8 = (b2 : Int) := by rw [hb2]; simp
  have t2' : (k7 : Int) * 256 = (b2 : Int) := by rw [hb2]; simp
  have p1 : bits BinOp.or IntKind.i64 (b0 : Int) (b1 : Int) = (b01 : Int) := by
    have := i64_or_nat b0 b1 (by omega) (by omega)
    rw [nat_join 24 b0 b1 (by omega) (by omega)] at this
    rw [hb01]
    exact this
  have p2 : bits BinOp.or IntKind.i64 (b01 : Int) (b2 : Int) = (b02 : Int) := by
    have := i64_or_nat b01 b2 (by omega) (by omega)
    rw [nat_join 16 b01 b2 (by omega) (by omega)] at this
    rw [hb02]
    exact this
  have p3 : bits BinOp.or IntKind.i64 (b02 : Int) (k8 : Int) = (Q : Int) := by
    have := i64_or_nat b02 k8 (by omega) (by omega)
    rw [nat_join 8 b02 k8 (by omega) (by omega)] at this
    rw [hQ]
    exact this
  have wk5 : IntKind.i64.wrap (k5 : Int) = (k5 : Int) := i64_ofNat k5 (by omega)
  have wk6 : IntKind.i64.wrap (k6 : Int) = (k6 : Int) := i64_ofNat k6 (by omega)
  have wk7 : IntKind.i64.wrap (k7 : Int) = (k7 : Int) := i64_ofNat k7 (by omega)
  have wk8 : IntKind.i64.wrap (k8 : Int) = (k8 : Int) := i64_ofNat k8 (by omega)
  have wb0 : IntKind.i64.wrap (b0 : Int) = (b0 : Int) := i64_ofNat b0 (by omega)
  have wb1 : IntKind.i64.wrap (b1 : Int) = (b1 : Int) := i64_ofNat b1 (by omega)
  have wb2 : IntKind.i64.wrap (b2 : Int) = (b2 : Int) := i64_ofNat b2 (by omega)
  have n0 : (0 : Int) < (n : Int) := by omega
  have n1 : (1 : Int) < (n : Int) := by omega
  have n2 : (2 : Int) < (n : Int) := by omega
  have n3 : (3 : Int) < (n : Int) := by omega
  have e4 : l.take 4 = [k5, k6, k7, k8] := by rw [hLL]; rfl
  have HV : Hid (val (l.take 4) = Q) := Lib.hid (by rw [e4, val4P]; omega)
  clear hb0 hb1 hb2 hb01 hb02 hQ hLL hc hby hl hb hA hbl e4 h4
  rw [HV.out]
  go_enter Try.func29, Try.ntmps29
  go_wp2
  go_quiet (fail)
  go_wp2
  go_ret
  exact ⟨rfl, _, rfl⟩
set_option maxRecDepth 100000 in
set_option maxHeartbeats 4000000 in
theorem pput_any (B : Nat) (X : List Nat) (v : Value) (m n : Nat) (w : World) (hB : B ≤ w.heap.size) (hm : X.length = m) (ho : w.ownsRow B 5 1 v m (cn .u8 X)) (hx : m ≤ 100000) : Calls Try.prog 26 #[v, .int .i64 (n : Int)] w fun e w' => ∃ v', e = .returned v' ∧ w'.ownsRow B 5 1 v' (m + 4) (cn .u8 (X ++ num n 4)) ∧ Below B w w' := by
  obtain ⟨R3, hR3⟩ : ∃ P, P = n / 16777216 := ⟨_, rfl⟩
  obtain ⟨R2, hR2⟩ : ∃ P, P = n / 65536 := ⟨_, rfl⟩
  obtain ⟨R1, hR1⟩ : ∃ P, P = n / 256 := ⟨_, rfl⟩
  obtain ⟨Y3, hY3⟩ : ∃ x, x = R3 % 256 := ⟨_, rfl⟩
  obtain ⟨Y2, hY2⟩ : ∃ x, x = R2 % 256 := ⟨_, rfl⟩
  obtain ⟨Y1, hY1⟩ : ∃ x, x = R1 % 256 := ⟨_, rfl⟩
  obtain ⟨Y0, hY0⟩ : ∃ x, x = n % 256 := ⟨_, rfl⟩
  have r3 : (n : Int) / 2 ^ 24 = (R3 : Int) := by rw [hR3]; simp
  have r3' : (n : Int) / 16777216 = (R3 : Int) := by rw [hR3]; simp
  have r2 : (n : Int) / 2 ^ 16 = (R2 : Int) := by rw [hR2]; simp
  have r2' : (n : Int) / 65536 = (R2 : Int) := by rw [hR2]; simp
  have r1 : (n : Int) / 2 ^ 8 = (R1 : Int) := by rw [hR1]; simp
  have r1' : (n : Int) / 256 = (R1 : Int) := by rw [hR1]; simp
  have v3 : IntKind.u8.wrap (R3 : Int) = (Y3 : Int) := by rw [u8_lowP, hY3]
  have v2 : IntKind.u8.wrap (R2 : Int) = (Y2 : Int) := by rw [u8_lowP, hY2]
  have v1 : IntKind.u8.wrap (R1 : Int) = (Y1 : Int) := by rw [u8_lowP, hY1]
  have v0 : IntKind.u8.wrap (n : Int) = (Y0 : Int) := by rw [u8_lowP, hY0]
  have HN4 : Hid (num n 4 = [Y3, Y2, Y1, Y0]) := Lib.hid (by
    rw [hY3, hY2, hY1, hY0, hR3, hR2, hR1]
    simp [num])
  have HO := Lib.hid ho
  have HM := Lib.hid hm
  have HBW := Lib.hid hB
  have HX := Lib.hid hx
  clear hR3 hR2 hR1 hY3 hY2 hY1 hY0 ho hm hB hx
  go_enter Try.func26, Try.ntmps26
  obtain ⟨wb, hwb⟩ : ∃ wb, wb = w := ⟨_, rfl⟩
  go_wp2_with (first
    | (at_builtin; refine wpList_append_at rfl (.tmp 5) (.tmp 17) rfl B _ X rfl (by rw [HM.out]; exact HO.out.alloc _) (some ⟨w.heap.size, 0, none⟩) [Y3, Y2, Y1, Y0] _ 4 rfl rfl (fun h => by cases h) _ (At.new w [Y3, Y2, Y1, Y0] 5 (0, 0)) (by have := HX.out; have := HM.out; simp; omega) (by have := HBW.out; simp; omega) ?_
       intro v5 w5 hown5 hg5
       have hb5 : Below B w w5 := ((Below.refl B w).alloc HBW.out _).grown hg5 (by have := HBW.out; simp; omega) (own_block HO.out)))
  go_ret
  rw [HN4.out]
  have h2 := hown5
  simp only [List.length_append, List.length_cons, List.length_nil, HM.out] at h2
  exact ⟨_, rfl, h2, hb5⟩
end Go.Proofs.Ytelbldhnlmggiaa
