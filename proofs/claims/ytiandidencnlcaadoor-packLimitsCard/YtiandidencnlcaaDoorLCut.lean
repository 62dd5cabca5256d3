/- Contract of the landed Get. -/
import Derived.Test.YtiandidencnlcaaDoorLStr
import Derived.Test.YtiandidencnlcaaDoorLMem
namespace Go.Proofs.YtiandidencnlcaaDoor
open Go.RowKit Pn

/-- What holds at Get's label: j bytes behind the first are read, N is their sum. -/
def GJ (A : Option Addr) (n c B F : Nat) (w : World) (l : List Nat) (D : Nat × Nat × Nat) (a : Act) (wr : World) : Prop :=
  ∃ (j N : Nat) (x7 x8 u13 u14 u15 u16 u17 u18 u19 u20 u21 u22 u23 u24 u25 u26 u27 u28 u29 u30 u31 u32 u33 u34 u35 u36 u37 u38 u39 u40 u41 u42 u43 u44 u45 u46 u47 u48 u49 u50 u51 u52 u53 u54 u55 u56 u57 u58 u59 u60 u61 u62 u63 : Value), a = { tmps := #[.slice A n c, .int .i64 (B : Int), undef, undef, .int .i64 0, .int .i64 0, .int .i64 0, x7, x8, .int .i64 ((7 * j : Nat) : Int), .int .i64 (F : Int), .int .i64 (N : Int), .int .i64 ((j + 1 : Nat) : Int), u13, u14, u15, u16, u17, u18, u19, u20, u21, u22, u23, u24, u25, u26, u27, u28, u29, u30, u31, u32, u33, u34, u35, u36, u37, u38, u39, u40, u41, u42, u43, u44, u45, u46, u47, u48, u49, u50, u51, u52, u53, u54, u55, u56, u57, u58, u59, u60, u61, u62, u63], defers := [] } ∧ j ≤ 4 ∧ j + 1 ≤ n ∧ N ≤ 2147483647 ∧ rd (5 - j) (l.drop (j + 1)) j N = D ∧ wr = w
set_option maxRecDepth 100000 in
theorem get_out (A : Option Addr) (l : List Nat) (n c : Nat) (b : Int) (w : World) (hb : b < 1 ∨ 8 < b) : Calls Tryd.prog 73 #[.slice A n c, .int .i64 b] w (GetPost w (getI l b)) := by
  have HP : Hid (getI l b = (0, 0, 1)) := Lib.hid (by rw [getI, if_pos hb])
  have HIB := Lib.hid (inByte_any b w)
  rw [decide_eq_false (show ¬ (1 ≤ b ∧ b ≤ 8) by omega)] at HIB
  clear hb
  go_enter Tryd.func73, Tryd.ntmps73
  go_wp2
  go_step3
  go_wp2_with fail
  with_reducible refine (HIB.out).mono ?_
  rintro e w1 ⟨rfl, rfl⟩
  go_wp2
  rw [Exit.noGoto_ret]
  go_ret3
  rw [HP.out]
  exact ⟨rfl, Below.refl _ _⟩
set_option maxRecDepth 100000 in
theorem get_nil (A : Option Addr) (c B : Nat) (w : World) (hB1 : 1 ≤ B) (hB8 : B ≤ 8) : Calls Tryd.prog 73 #[.slice A 0 c, .int .i64 (B : Int)] w (GetPost w (getN [] B)) := by
  have HIB := Lib.hid (inByte_any (B : Int) w)
  rw [decide_eq_true (show 1 ≤ (B : Int) ∧ (B : Int) ≤ 8 by omega)] at HIB
  go_enter Tryd.func73, Tryd.ntmps73
  go_wp2
  go_step3
  go_wp2_with fail
  with_reducible refine (HIB.out).mono ?_
  rintro e w1 ⟨rfl, rfl⟩
  go_wp2
  rw [Exit.noGoto_ret]
  go_ret3
  exact ⟨rfl, Below.refl _ _⟩
set_option maxRecDepth 100000 in
set_option maxHeartbeats 8000000 in
theorem get_in (A : Option Addr) (l : List Nat) (n c B : Nat) (w : World) (hA : At .u8 w w.heap.size A l) (hb : ∀ x ∈ l, x < 256) (hl : l.length = n) (hn : n ≤ 100000) (hpos : 0 < n) (hB1 : 1 ≤ B) (hB8 : B ≤ 8) :
    Calls Tryd.prog 73 #[.slice A n c, .int .i64 (B : Int)] w (GetPost w (getN l B)) := by
  obtain ⟨bk, o, rfl, _, hc⟩ := hA.pos (by omega)
  obtain ⟨D, hD⟩ : ∃ D, D = getN l B := ⟨_, rfl⟩
  rw [← hD]
  obtain ⟨x, hx⟩ : ∃ x, x = l[0] := ⟨_, rfl⟩
  have cx : w.cell? ⟨bk, o, none⟩ = some (.int .u8 (x : Int)) := by rw [hx]; have := hc 0 (by omega); rwa [Nat.add_zero] at this
  have hx2 : x < 256 := by rw [hx]; exact hb _ (List.getElem_mem _)
  obtain ⟨F, hF⟩ : ∃ F, F = full B := ⟨_, rfl⟩
  have hF2 : F < 256 := by rw [hF]; have := full_bound hB8; have := full_lt B; omega
  obtain ⟨m, hm⟩ : ∃ m, m = x % 2 ^ B := ⟨_, rfl⟩
  have hmp : m < 256 := by rw [hm]; have := Nat.mod_le x (2 ^ B); omega
  have em : bits BinOp.and IntKind.i64 (x : Int) (F : Int) = (m : Int) := by rw [i64_and_nat x F (by omega) (by omega), hF, and_low, hm]
  have HD : Hid (D = if m < F then (m, 1, 0) else rd 5 (l.drop 1) 0 m) := Lib.hid (by
    rw [hD]
    rcases l with _ | ⟨y, r⟩
    · simp at hl; omega
    · rw [hm, hF, hx]; rfl)
  have HIB := Lib.hid (inByte_any (B : Int) w)
  rw [decide_eq_true (show 1 ≤ (B : Int) ∧ (B : Int) ≤ 8 by omega)] at HIB
  have HON := Lib.hid (ones_any B w hB1 hB8)
  rw [← hF] at HON
  have HC := Lib.hid hc
  have HB := Lib.hid hb
  have HL := Lib.hid hl
  have hpi : (n : Int) ≠ 0 := by omega
  have hpi2 : (0 : Int) < (n : Int) := by omega
  have q0 : ((n : Int) == 0) = false := by simp; omega
  clear hF hD hx hm hA hc hb hl
  go_enter Tryd.func73, Tryd.ntmps73
  go_wp2
  by_cases hlt : m < F
  · go_step3
    go_wp2_with fail
    with_reducible refine (HIB.out).mono ?_
    rintro e w1 ⟨rfl, rfl⟩
    go_wp2_with fail
    with_reducible refine (HON.out).mono ?_
    rintro e w1 ⟨rfl, rfl⟩
    go_wp2
    rw [Exit.noGoto_ret]
    go_ret3
    rw [HD.out, if_pos hlt]
    exact ⟨rfl, Below.refl _ _⟩
  refine wp_scope_one 0 (GJ (some ⟨bk, o, none⟩) n c B F w l D) (fun a _ => 6 - (intOf (a.tmps.getD 12 undef)).toNat) rfl ?_ ?_
  · rintro a wr ⟨j, N, x7, x8, u13, u14, u15, u16, u17, u18, u19, u20, u21, u22, u23, u24, u25, u26, u27, u28, u29, u30, u31, u32, u33, u34, u35, u36, u37, u38, u39, u40, u41, u42, u43, u44, u45, u46, u47, u48, u49, u50, u51, u52, u53, u54, u55, u56, u57, u58, u59, u60, u61, u62, u63, rfl, hj, hjn, hN, hrd, rfl⟩
    clear cx HIB HON
    by_cases hjn2 : j + 1 < n
    · have hjl : j + 1 < l.length := by have := HL.out; omega
      obtain ⟨y, hy⟩ : ∃ y, y = l[j + 1] := ⟨_, rfl⟩
      obtain ⟨i, hi⟩ : ∃ i, i = j + 1 := ⟨_, rfl⟩
      have cy : wr.cell? ⟨bk, o + i, none⟩ = some (.int .u8 (y : Int)) := by rw [hy, hi]; exact HC.out (j + 1) hjl
      have hy2 : y < 256 := by rw [hy]; exact HB.out _ (List.getElem_mem _)
      obtain ⟨z, hz⟩ : ∃ z, z = y % 128 := ⟨_, rfl⟩
      have ez : bits BinOp.and IntKind.u8 (y : Int) 127 = (z : Int) := by
        have := u8_and_nat y 127 hy2 (by omega)
        rw [show (127 : Nat) = full 7 from rfl, and_low, show y % 2 ^ 7 = z by rw [hz]] at this
        exact this
      obtain ⟨s, hs⟩ : ∃ s, s = 7 * j := ⟨_, rfl⟩
      have ss := u64_small s (by omega)
      have si : IntKind.i64.wrap (s : Int) = (s : Int) := IntWalk.i64_in _ (by omega)
      have em64 : min s 64 = s := Nat.min_eq_left (by omega)
      obtain ⟨q, hq⟩ : ∃ q, q = 2 ^ s := ⟨_, rfl⟩
      have hq1 : 0 < q := by rw [hq]; exact Nat.two_pow_pos s
      have hq2 : q ≤ 268435456 := by rw [hq]; exact (Nat.pow_le_pow_right (by decide) (by omega) : 2 ^ s ≤ 2 ^ 28)
      have eq : ((2 : Int) ^ s) = (q : Int) := by rw [hq]; simp
      obtain ⟨t, ht⟩ : ∃ t, t = z * q := ⟨_, rfl⟩
      have et : (z : Int) * (q : Int) = (t : Int) := by rw [ht]; simp
      have hz128 : z < 128 := by omega
      have ht2 : t ≤ 127 * 268435456 := by rw [ht]; exact Nat.mul_le_mul (by omega) hq2
      have hsb : s ≤ 28 := by omega
      obtain ⟨V, hV⟩ : ∃ V, V = N + t := ⟨_, rfl⟩
      have eV : (N : Int) + (t : Int) = (V : Int) := by omega
      obtain ⟨R, hR⟩ : ∃ R, R = 2147483647 - N := ⟨_, rfl⟩
      have eR : (2147483647 : Int) - (N : Int) = (R : Int) := by omega
      obtain ⟨R2, hR2⟩ : ∃ R2, R2 = R / q := ⟨_, rfl⟩
      have eR2 : (R : Int) / (q : Int) = (R2 : Int) := by rw [hR2]; exact (Int.natCast_ediv _ _).symm
      have hR2b : R2 ≤ 2147483647 := by rw [hR2]; have := Nat.div_le_self R q; omega
      have hcmp : R2 < z ↔ 2147483647 < V := by
        rw [hR2, Nat.div_lt_iff_lt_mul hq1, ← ht, hV]
        omega
      have HRD : Hid (D = if 2147483647 < V then (0, 0, 1) else if y < 128 then (V, j + 2, 0) else rd (5 - (j + 1)) (l.drop (j + 1 + 1)) (j + 1) V) := Lib.hid (by
        rw [← hrd, List.drop_eq_getElem_cons hjl, ← hy, show 5 - j = 5 - (j + 1) + 1 by omega, rd, ← hz, ← hs, ← hq, ← ht, ← hV])
      have hVb : V ≤ 2147483647 + 127 * 268435456 := by omega
      have ij : (i : Int) < (n : Int) := by omega
      have qn : ((i : Int) == (n : Int)) = false := by simp; omega
      rw [show ((j + 1 : Nat) : Int) = (i : Int) by omega]
      have HI := Lib.hid hi
      have HS := Lib.hid hs
      have hi1 : 1 ≤ i := by omega
      have hRb : R ≤ 2147483647 := by omega
      obtain ⟨i2, hi2⟩ : ∃ i2, i2 = i + 1 := ⟨_, rfl⟩
      have ei2 : (i : Int) + 1 = (i2 : Int) := by omega
      have hi2b : i2 ≤ 6 := by omega
      have HI2 := Lib.hid hi2
      obtain ⟨s2, hs2⟩ : ∃ s2, s2 = s + 7 := ⟨_, rfl⟩
      have es2 : (s : Int) + 7 = (s2 : Int) := by omega
      have HS2 := Lib.hid hs2
      have hs2b : s2 ≤ 35 := by omega
      rw [show ((7 * j : Nat) : Int) = (s : Int) by omega]
      clear hrd hy hz hs hq ht hV hi hjn hjn2 hjl hR hR2 hi2 hs2
      by_cases hbig : 2147483647 < V
      · have hzR : (R2 : Int) < (z : Int) := by have := hcmp.2 hbig; omega
        have dz : decide ((R2 : Int) < (z : Int)) = true := decide_eq_true hzR
        clear hcmp
        go_wp2
        simp only [Exit.jump]
        go_ret3
        rw [HRD.out, if_pos hbig]
        exact ⟨rfl, Below.refl _ _⟩
      · have hzR : ¬ (R2 : Int) < (z : Int) := by have := mt hcmp.1 hbig; omega
        have dz : decide ((R2 : Int) < (z : Int)) = false := decide_eq_false hzR
        clear hcmp
        by_cases h128 : y < 128
        · have dy : decide ((y : Int) < 128) = true := decide_eq_true (by omega)
          go_wp2
          simp only [Exit.jump]
          go_ret3
          rw [HRD.out, if_neg hbig, if_pos h128]
          exact ⟨ret_tuple3 rfl (by have := HI.out; have := HI2.out; simp; omega) rfl, Below.refl _ _⟩
        · have dy : decide ((y : Int) < 128) = false := decide_eq_false (by omega)
          by_cases h6 : i2 = 6
          · have q6 : ((i2 : Int) == 6) = true := by simp; omega
            have HDD : Hid (D = (0, 0, 1)) := Lib.hid (by
              have h1 := HI.out
              have h2 := HI2.out
              obtain rfl : j = 4 := by omega
              rw [HRD.out, if_neg hbig, if_neg h128, rd])
            clear h6
            go_wp2
            simp only [Exit.jump]
            go_ret3
            rw [HDD.out]
            exact ⟨rfl, Below.refl _ _⟩
          · have q6 : ((i2 : Int) == 6) = false := by simp; omega
            go_wp2
            go_step3
            have h1 := HI.out
            have h2 := HI2.out
            have h3 := HS.out
            have h4 := HS2.out
            rw [show (i2 : Int) = ((j + 1 + 1 : Nat) : Int) by omega, show (s2 : Int) = ((7 * (j + 1) : Nat) : Int) by omega]
            refine ⟨rfl, ⟨j + 1, V, _, _, _, _, _, _, _, _, _, _, _, _, _, _, _, _, _, _, _, _, _, _, _, _, _, _, _, _, _, _, _, _, _, _, _, _, _, _, _, _, _, _, _, _, _, _, _, _, _, _, _, _, _, rfl, by omega, by omega, by omega, by rw [HRD.out, if_neg hbig, if_neg h128], rfl⟩, ?_⟩
            simp [intOf]
            omega
    · have HRD : Hid (D = (0, 0, 4)) := Lib.hid (by rw [← hrd, List.drop_of_length_le (by have := HL.out; omega), show 5 - j = 5 - (j + 1) + 1 by omega, rd])
      obtain ⟨i, hi⟩ : ∃ i, i = j + 1 := ⟨_, rfl⟩
      rw [show ((j + 1 : Nat) : Int) = (i : Int) by omega]
      have qn : ((i : Int) == (n : Int)) = true := by simp; omega
      generalize 7 * j = s
      clear hrd hi
      go_wp2
      simp only [Exit.jump]
      go_ret3
      rw [HRD.out]
      exact ⟨rfl, Below.refl _ _⟩
  · intro HPS
    go_wp2_with fail
    with_reducible refine (HIB.out).mono ?_
    rintro e w1 ⟨rfl, rfl⟩
    go_wp2_with fail
    with_reducible refine (HON.out).mono ?_
    rintro e w1 ⟨rfl, rfl⟩
    go_wp2
    go_step3
    rename_i hK
    refine hK _ _ (HPS.out _ _ ⟨0, m, _, _, _, _, _, _, _, _, _, _, _, _, _, _, _, _, _, _, _, _, _, _, _, _, _, _, _, _, _, _, _, _, _, _, _, _, _, _, _, _, _, _, _, _, _, _, _, _, _, _, _, _, _, rfl, by omega, by omega, by omega, by rw [HD.out, if_neg hlt], rfl⟩)
/-- Get, at all arguments. -/
theorem pget_f (A : Option Addr) (l : List Nat) (n c : Nat) (b : Int) (w : World) (_ : Rdy w) (hA : At .u8 w w.heap.size A l) (hb : ∀ x ∈ l, x < 256) (hl : l.length = n) (_ : A = none → c = 0) (_ : n ≤ c) (hn : n ≤ 100000) (_ : Rng b) :
    Calls Tryd.prog 73 #[.slice A n c, .int .i64 b] w (GetPost w (getI l b)) := by
  by_cases hin : b < 1 ∨ 8 < b
  · exact get_out A l n c b w hin
  · obtain ⟨B, rfl⟩ : ∃ v : Nat, b = (v : Int) := ⟨b.toNat, by omega⟩
    rw [getI, if_neg hin, Int.toNat_natCast]
    rcases Nat.eq_zero_or_pos n with h0 | h0
    · subst h0
      obtain rfl := List.length_eq_zero_iff.1 hl
      exact get_nil A c B w (by omega) (by omega)
    · exact get_in A l n c B w hA hb hl hn h0 (by omega) (by omega)
end Go.Proofs.YtiandidencnlcaaDoor
/- Slice expressions over bytes, of every stage. -/
namespace Go.Proofs.YtiandidencnlcaaDoor
open Go.RowKit

theorem elemBs : Tryd.prog.underlying 34 = some (.slice (Tryd.prog.elem 34)) := by kernel_rfl
theorem sizeU8 (w : World) : (sizeOf (Tryd.prog.elem 34)).run Tryd.prog w = .ok 1 w := by kernel_rfl
theorem slice_h (A : Option Addr) (n c q : Nat) (w : World) (h : q ≤ c) : (Instr.sliceAt 34 (.slice A n c) none (some (.int .i64 q)) none).run Tryd.prog w = .ok (.slice (cutAt A c 0) q c) w := by
  rw [run_sliceAt_slice w 34 _ _ _ _ elemBs, run_slice_h w 34 A n c elemBs .i64 q (by omega) (by omega), sizeU8]
  simp [sliced, cutAt, Result.andThen]
theorem slice_l (A : Option Addr) (n c q r : Nat) (w : World) (h : q ≤ n) (hr : n - q = r) : (Instr.sliceAt 34 (.slice A n c) (some (.int .i64 q)) none none).run Tryd.prog w = .ok (.slice (cutAt A c q) r (c - q)) w := by
  subst hr
  rw [run_sliceAt_slice w 34 _ _ _ _ elemBs, run_slice_l w 34 A n c elemBs .i64 q (by omega) (by omega), sizeU8]
  simp [sliced, cutAt, Result.andThen]
theorem At.take {w : World} {B c q : Nat} {A : Option Addr} {l : List Nat} (h : At .u8 w B A l) (hc : l.length ≤ c) : At .u8 w B (cutAt A c 0) (l.take q) :=
  h.cut (q := 0) hc (fun i hi => by
    have hi' : i < q ∧ i < l.length := by simp at hi; omega
    exact ⟨by omega, by rw [Nat.zero_add, List.getElem?_take, if_pos hi'.1]⟩)
theorem slice_lh (A : Option Addr) (n c q h r : Nat) (w : World) (h1 : q ≤ h) (h2 : h ≤ c) (hr : h - q = r) : (Instr.sliceAt 34 (.slice A n c) (some (.int .i64 q)) (some (.int .i64 h)) none).run Tryd.prog w = .ok (.slice (cutAt A c q) r (c - q)) w := by
  subst hr
  rw [run_sliceAt_slice w 34 _ _ _ _ elemBs, run_slice_lh w 34 A n c elemBs .i64 .i64 q h (by omega) (by omega) (by omega), sizeU8]
  simp [sliced, cutAt, Result.andThen]
theorem At.drop {w : World} {B c q : Nat} {A : Option Addr} {l : List Nat} (h : At .u8 w B A l) (hc : l.length ≤ c) : At .u8 w B (cutAt A c q) (l.drop q) :=
  h.cut (q := q) hc (fun i hi => by
    have hi' : i < l.length - q := by simpa using hi
    exact ⟨by omega, by rw [List.getElem?_drop]⟩)
theorem At.mid {w : World} {B c q k : Nat} {A : Option Addr} {l : List Nat} (h : At .u8 w B A l) (hc : l.length ≤ c) : At .u8 w B (cutAt A c q) ((l.drop q).take k) :=
  h.cut (q := q) hc (fun i hi => by
    have hi' : i < k ∧ i < l.length - q := by simp at hi; omega
    exact ⟨by omega, by rw [List.getElem?_take, if_pos hi'.1, List.getElem?_drop]⟩)
end Go.Proofs.YtiandidencnlcaaDoor
