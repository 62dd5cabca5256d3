/- Contract of the landed Decode. -/
import Derived.Test.YtiandidencnlcaaDoorHDecode
namespace Go.Proofs.YtiandidencnlcaaDoor
open Go.RowKit Hf

/-- Decode's frame at a label. -/
def DF (A : Option Addr) (n c : Nat) (most : Int) (x6 x7 x8 x9 x10 x11 x12 : Value) (a : Act) : Prop :=
  ∃ u13 u14 u15 u16 u17 u18 u19 u20 u21 u22 u23 u24 u25 u26 u27 u28 u29 u30 u31 u32 u33 u34 u35 u36 u37 u38 u39 u40 u41 u42 u43 u44 u45 u46 u47 u48 u49 u50 u51 u52 u53 u54 u55 u56 u57 u58 u59 u60 u61 u62 u63 u64 u65 u66 u67 : Value, a = { tmps := #[.slice A n c, .int .i64 most, undef, undef, .slice none 0 0, .int .i64 0, x6, x7, x8, x9, x10, x11, x12, u13, u14, u15, u16, u17, u18, u19, u20, u21, u22, u23, u24, u25, u26, u27, u28, u29, u30, u31, u32, u33, u34, u35, u36, u37, u38, u39, u40, u41, u42, u43, u44, u45, u46, u47, u48, u49, u50, u51, u52, u53, u54, u55, u56, u57, u58, u59, u60, u61, u62, u63, u64, u65, u66, u67], defers := [] }
structure Ones (L W o1 : Nat) : Prop where
  low : W < 2 ^ L
  le : o1 ≤ L
  eq : o1 = L ↔ W = 2 ^ L - 1
theorem Ones.start : Ones 0 0 0 := ⟨by decide, by omega, by simp⟩
theorem Ones.next {L W o1 z : Nat} (h : Ones L W o1) (hz : z ≤ 1) : Ones (L + 1) (2 * W + z) (o1 + z) := by
  have h1 := h.low
  have h2 := h.le
  have h3 := h.eq
  have hp : 2 ^ (L + 1) = 2 ^ L * 2 := Nat.pow_succ ..
  generalize 2 ^ L = q at h1 h3 hp
  refine ⟨by omega, by omega, ?_⟩
  rw [hp]
  omega
theorem Ones.one {z : Nat} (hz : z ≤ 1) : Ones 1 (lm 1 + z) z := by
  have h := Ones.start.next hz
  rw [show lm 1 + z = 2 * 0 + z by rw [show lm 1 = 0 from rfl]]
  simpa using h
/-- What holds at Decode's labels: 0 the next code, 2 the next bit, 3 a whole code, 1 the end. -/
def DJ (w : World) (A : Option Addr) (b : List Nat) (n c : Nat) (most : Int) : Nat → Act → World → Prop
  | 0, a, wr => ∃ (x6 x8 x9 x10 x11 x12 : Value) (k : Nat) (o : List Nat), DF A n c most x6 (.int .i64 ((k : Nat) : Int)) x8 x9 x10 x11 x12 a ∧ k ≤ 8 * n ∧ o.length ≤ k ∧ run most ((unp b).drop k) 0 0 o = dec b most ∧ Row w.heap.size w o x6 wr
  | 1, a, wr => ∃ (x6 x7 x8 x11 x12 : Value) (L o1 : Nat) (o : List Nat), DF A n c most x6 x7 x8 (.int .i64 ((L : Nat) : Int)) (.int .i64 ((o1 : Nat) : Int)) x11 x12 a ∧ L ≤ 29 ∧ o1 ≤ L ∧ (dec b most = if 7 < L ∨ o1 < L then ([], 2) else (o, 0)) ∧ Row w.heap.size w o x6 wr
  | 2, a, wr => ∃ (x6 x8 : Value) (k L o1 F : Nat) (o : List Nat), DF A n c most x6 (.int .i64 ((k : Nat) : Int)) x8 (.int .i64 ((L : Nat) : Int)) (.int .i64 ((o1 : Nat) : Int)) (.int .i64 ((sh L : Nat) : Int)) (.int .i64 ((F : Nat) : Int)) a ∧ k ≤ 8 * n ∧ L ≤ 29 ∧ o.length ≤ k ∧ Ones L (lm L + F) o1 ∧ run most ((unp b).drop k) (lm L + F) L o = dec b most ∧ Row w.heap.size w o x6 wr
  | 3, a, wr => ∃ (x6 x8 x9 x10 : Value) (k S F : Nat) (o : List Nat), DF A n c most x6 (.int .i64 ((k : Nat) : Int)) x8 x9 x10 (.int .i64 ((S : Nat) : Int)) (.int .i64 ((F : Nat) : Int)) a ∧ k ≤ 8 * n ∧ S ≤ 256 ∧ F ≤ 256 ∧ S + F < 256 ∧ o.length < k ∧ (dec b most = if most ≤ (o.length : Int) then ([], 3) else run most ((unp b).drop k) 0 0 (o ++ [byc.getD (S + F) 0])) ∧ Row w.heap.size w o x6 wr
  | _, _, _ => False
def Dμ (n : Nat) (l : Nat) (a : Act) (_ : World) : Nat :=
  match l with
  | 0 => 4 * (8 * n - (intOf (a.tmps.getD 7 undef)).toNat) + 2
  | 1 => 0
  | 2 => 4 * (8 * n - (intOf (a.tmps.getD 7 undef)).toNat) + 1
  | _ => 4 * (8 * n - (intOf (a.tmps.getD 7 undef)).toNat) + 3
theorem drop_bit (b : List Nat) (k : Nat) (h : k < 8 * b.length) : (unp b).drop k = (unp b).getD k 0 :: (unp b).drop (k + 1) := by
  have hku : k < (unp b).length := by rw [unp_len]; exact h
  rw [List.drop_eq_getElem_cons hku, List.getD, List.getElem?_eq_getElem hku]
  rfl
theorem drop_end (b : List Nat) (n : Nat) (h : b.length = n) : (unp b).drop (8 * n) = [] := List.drop_of_length_le (by rw [unp_len]; omega)
theorem run_low {most : Int} {z W L : Nat} {r o : List Nat} (hW : W < 2 ^ L) (hL : L ≤ 29) (h : fnd (2 * W + z) (L + 1) 257 = none) : run most (z :: r) W L o = run most r (2 * W + z) (L + 1) o := by
  have : 2 ^ L ≤ 2 ^ 29 := Nat.pow_le_pow_right (by decide) hL
  have e : W * 2 % 4294967296 + z = 2 * W + z := by omega
  rw [run_none (by rw [e]; exact h), e]
theorem run_hit {most : Int} {z W L i : Nat} {r o : List Nat} (hW : W < 2 ^ L) (hL : L ≤ 29) (h : fnd (2 * W + z) (L + 1) 257 = some i) :
    run most (z :: r) W L o = if i = 256 then ([], 2) else if most ≤ (o.length : Int) then ([], 3) else run most r 0 0 (o ++ [i]) := by
  have : 2 ^ L ≤ 2 ^ 29 := Nat.pow_le_pow_right (by decide) hL
  have e : W * 2 % 4294967296 + z = 2 * W + z := by omega
  rw [run_some (by rw [e]; exact h)]
/-- No code has one bit. -/
theorem run_first {most : Int} {z : Nat} {r o : List Nat} : run most (z :: r) 0 0 o = run most r (lm 1 + z) 1 o := by
  rw [run_low (by decide) (by omega) (fnd_low _ _ (by omega) 257 (Nat.le_refl _))]
  rw [show lm 1 + z = 2 * 0 + z by rw [show lm 1 = 0 from rfl]]
theorem run_done {most : Int} {W L o1 : Nat} {o : List Nat} (h : Ones L W o1) : run most [] W L o = if 7 < L ∨ o1 < L then ([], 2) else (o, 0) := by
  rw [run]
  have h1 := h.le
  have h2 := h.eq
  by_cases h7 : 7 < L
  · rw [if_pos (Or.inl h7), if_pos (Or.inl h7)]
  · by_cases ho : o1 < L
    · rw [if_pos (Or.inr ho), if_pos (Or.inr (by omega))]
    · rw [if_neg (by omega), if_neg (by omega)]
theorem get_nat (s : ByteArray) (k : Nat) (h : k < s.size) : (s[k]'h).toNat = (s.data.toList.map UInt8.toNat).getD k 0 := by
  have h' : k < s.data.size := h
  rw [List.getD, List.getElem?_eq_getElem (by simpa using h')]
  simp
  rfl
set_option maxRecDepth 100000 in
theorem by_data : byB.data.toList.map UInt8.toNat = byc := by kernel_rfl
theorem by_get (k : Nat) (h : k < byB.size) : (byB[k]'h).toNat = byc.getD k 0 := by rw [get_nat, by_data]
set_option maxRecDepth 100000 in
set_option maxHeartbeats 16000000 in
theorem dec_any (A : Option Addr) (b : List Nat) (n c : Nat) (most : Int) (w : World) (hR : Rdy w) (hA : At .u8 w w.heap.size A b) (hb : ∀ x ∈ b, x < 256) (hl : b.length = n) (hn : n ≤ 20000) :
    Calls Tryd.prog 81 #[.slice A n c, .int .i64 most] w (DecPost w (dec b most)) := by
  have HA := Lib.hid hA
  have HB := Lib.hid hb
  have HL := Lib.hid hl
  have HR := Lib.hid hR
  obtain ⟨D, hD⟩ : ∃ D, D = dec b most := ⟨_, rfl⟩
  rw [← hD]
  have HD := Lib.hid hD
  have c1 : w.cell? ⟨0, 1, none⟩ = some (.int .i64 0) := hR.ct 1 (by omega)
  have hpos := hR.pos
  clear hA hb hl hR hD
  go_enter Tryd.func81, Tryd.ntmps81
  go_wp2
  refine wp_scope_many (DJ w A b n c most) (Dμ n) ?_ ?_
  · by_cases hn0 : n = 0
    · have q0 : ((0 : Int) == 8 * (n : Int)) = true := by simp; omega
      go_wp2
      go_step3
      go_wp2
      go_step3
      go_wp2
      go_step3
      refine ⟨_, _, _, _, _, 0, 0, [], ⟨_, _, _, _, _, _, _, _, _, _, _, _, _, _, _, _, _, _, _, _, _, _, _, _, _, _, _, _, _, _, _, _, _, _, _, _, _, _, _, _, _, _, _, _, _, _, _, _, _, _, _, _, _, _, _, rfl⟩, by omega, by omega, ?_, World.ownsRow_nil _ _ _ _, Below.refl _ _⟩
      have hd := drop_end b n HL.out
      rw [hn0, Nat.mul_zero, List.drop_zero] at hd
      rw [dec, hd, run_done Ones.start]
    · have q0 : ((0 : Int) == 8 * (n : Int)) = false := by simp; omega
      obtain ⟨z, hz⟩ : ∃ z, z = (unp b).getD 0 0 := ⟨_, rfl⟩
      have hz1 : z ≤ 1 := by rw [hz]; exact getD_bt (unp_bt b) _ _ (by omega)
      have HBT : Hid (Calls Tryd.prog 84 #[.slice A n c, .int .i64 0] w fun e w' => e = .returned (.int .i64 (((unp b).getD 0 0 : Nat) : Int)) ∧ w' = w) := Lib.hid (bit_any A b n c 0 w HA.out HB.out HL.out hn (by omega))
      have HDB : Hid ((unp b).drop 0 = z :: (unp b).drop (0 + 1)) := Lib.hid (by rw [hz]; exact drop_bit b 0 (by have := HL.out; omega))
      rw [← hz] at HBT
      clear hz
      go_wp2
      go_step3
      go_wp2
      go_step3
      go_wp2_with fail
      with_reducible refine (HBT.out).mono ?_
      rintro e w1 ⟨rfl, rfl⟩
      go_wp2
      go_step3
      refine ⟨_, _, 1, 1, z, z, [], ⟨_, _, _, _, _, _, _, _, _, _, _, _, _, _, _, _, _, _, _, _, _, _, _, _, _, _, _, _, _, _, _, _, _, _, _, _, _, _, _, _, _, _, _, _, _, _, _, _, _, _, _, _, _, _, _, rfl⟩, by omega, by omega, by simp, ?_, ?_, World.ownsRow_nil _ _ _ _, Below.refl _ _⟩
      · exact Ones.one hz1
      · have h1 := HDB.out
        rw [List.drop_zero] at h1
        rw [dec, h1, run_first]
        rfl
  · intro l a wr hJ
    match l, hJ with
    | 0, hJ =>
      obtain ⟨x6, x8, x9, x10, x11, x12, k, o, ⟨u13, u14, u15, u16, u17, u18, u19, u20, u21, u22, u23, u24, u25, u26, u27, u28, u29, u30, u31, u32, u33, u34, u35, u36, u37, u38, u39, u40, u41, u42, u43, u44, u45, u46, u47, u48, u49, u50, u51, u52, u53, u54, u55, u56, u57, u58, u59, u60, u61, u62, u63, u64, u65, u66, u67, rfl⟩, hk, ho, hrun, hrow⟩ := hJ
      refine ⟨_, rfl, ?_⟩
      by_cases hk8 : k = 8 * n
      · have q0 : ((k : Int) == 8 * (n : Int)) = true := by simp; omega
        go_wp2
        go_step3
        go_wp2
        go_step3
        refine ⟨⟨_, _, _, _, _, 0, 0, o, ⟨_, _, _, _, _, _, _, _, _, _, _, _, _, _, _, _, _, _, _, _, _, _, _, _, _, _, _, _, _, _, _, _, _, _, _, _, _, _, _, _, _, _, _, _, _, _, _, _, _, _, _, _, _, _, _, rfl⟩, by omega, by omega, ?_, hrow⟩, by simp [Dμ]⟩
        rw [← hrun, hk8, drop_end b n HL.out, run_done Ones.start]
      · have q0 : ((k : Int) == 8 * (n : Int)) = false := by simp; omega
        have hkn : k < 8 * n := by omega
        obtain ⟨z, hz⟩ : ∃ z, z = (unp b).getD k 0 := ⟨_, rfl⟩
        have hz1 : z ≤ 1 := by rw [hz]; exact getD_bt (unp_bt b) _ _ (by omega)
        have HBT := Lib.hid (bit_any A b n c k wr (HA.out.up hrow.2) HB.out HL.out hn hkn)
        have HDB : Hid ((unp b).drop k = z :: (unp b).drop (k + 1)) := Lib.hid (by rw [hz]; exact drop_bit b k (by have := HL.out; omega))
        rw [← hz] at HBT
        have HRUN := Lib.hid hrun
        have HROW := Lib.hid hrow
        have c1 : wr.cell? ⟨0, 1, none⟩ = some (.int .i64 0) := (HR.out.below hrow.2).ct 1 (by omega)
        clear hz hrun hrow
        go_wp2
        go_step3
        go_wp2_with fail
        with_reducible refine (HBT.out).mono ?_
        rintro e w1 ⟨rfl, rfl⟩
        go_wp2
        go_step3
        refine ⟨⟨_, _, k + 1, 1, z, z, o, ⟨_, _, _, _, _, _, _, _, _, _, _, _, _, _, _, _, _, _, _, _, _, _, _, _, _, _, _, _, _, _, _, _, _, _, _, _, _, _, _, _, _, _, _, _, _, _, _, _, _, _, _, _, _, _, _, rfl⟩, by omega, by omega, by omega, ?_, ?_, HROW.out⟩, ?_⟩
        · exact Ones.one hz1
        · rw [← HRUN.out, HDB.out, run_first]
        · simp [Dμ, intOf]
          omega
    | 1, hJ =>
      obtain ⟨x6, x7, x8, x11, x12, L, o1, o, ⟨u13, u14, u15, u16, u17, u18, u19, u20, u21, u22, u23, u24, u25, u26, u27, u28, u29, u30, u31, u32, u33, u34, u35, u36, u37, u38, u39, u40, u41, u42, u43, u44, u45, u46, u47, u48, u49, u50, u51, u52, u53, u54, u55, u56, u57, u58, u59, u60, u61, u62, u63, u64, u65, u66, u67, rfl⟩, hL, ho1, hdec, hrow⟩ := hJ
      refine ⟨_, rfl, ?_⟩
      rw [← HD.out] at hdec
      obtain ⟨A8, c8, hv8⟩ := own_shape hrow.1
      subst hv8
      have HROW := Lib.hid hrow
      have HDEC := Lib.hid hdec
      clear hrow hdec
      by_cases h7 : 7 < L
      · have p7 : decide ((7 : Int) < (L : Int)) = true := decide_eq_true (by omega)
        have p7' : (7 : Int) < (L : Int) := by omega
        go_wp2
        simp only [jumpsTo]
        go_ret2
        rw [HDEC.out, if_pos (Or.inl h7)]
        exact ⟨none, 0, rfl, at_nil _ _ _ _, fun _ => rfl, HROW.out.2⟩
      · have p7 : decide ((7 : Int) < (L : Int)) = false := decide_eq_false (by omega)
        have p7' : ¬ (7 : Int) < (L : Int) := by omega
        by_cases h1 : o1 < L
        · have p1 : decide ((o1 : Int) < (L : Int)) = true := decide_eq_true (by omega)
          have p1' : (o1 : Int) < (L : Int) := by omega
          go_wp2
          simp only [jumpsTo]
          go_ret2
          rw [HDEC.out, if_pos (Or.inr h1)]
          exact ⟨none, 0, rfl, at_nil _ _ _ _, fun _ => rfl, HROW.out.2⟩
        · have p1 : decide ((o1 : Int) < (L : Int)) = false := decide_eq_false (by omega)
          have p1' : ¬ (o1 : Int) < (L : Int) := by omega
          go_wp2
          simp only [jumpsTo]
          go_ret2
          rw [HDEC.out, if_neg (by omega)]
          exact ⟨A8, c8, rfl, At.of_own HROW.out.1, own_none HROW.out.1, HROW.out.2⟩
    | 2, hJ =>
      obtain ⟨x6, x8, k, L, o1, F, o, ⟨u13, u14, u15, u16, u17, u18, u19, u20, u21, u22, u23, u24, u25, u26, u27, u28, u29, u30, u31, u32, u33, u34, u35, u36, u37, u38, u39, u40, u41, u42, u43, u44, u45, u46, u47, u48, u49, u50, u51, u52, u53, u54, u55, u56, u57, u58, u59, u60, u61, u62, u63, u64, u65, u66, u67, rfl⟩, hk, hL, ho, hO, hrun, hrow⟩ := hJ
      refine ⟨_, rfl, ?_⟩
      by_cases hk8 : k = 8 * n
      · have q0 : ((k : Int) == 8 * (n : Int)) = true := by simp; omega
        generalize sh L = S
        have HO := Lib.hid hO
        have HRUN := Lib.hid hrun
        clear hO hrun
        go_wp2
        go_step3
        refine ⟨⟨_, _, _, _, _, L, o1, o, ⟨_, _, _, _, _, _, _, _, _, _, _, _, _, _, _, _, _, _, _, _, _, _, _, _, _, _, _, _, _, _, _, _, _, _, _, _, _, _, _, _, _, _, _, _, _, _, _, _, _, _, _, _, _, _, _, rfl⟩, hL, HO.out.le, ?_, hrow⟩, by simp [Dμ]⟩
        rw [← HRUN.out, hk8, drop_end b n HL.out, run_done HO.out]
      · have q0 : ((k : Int) == 8 * (n : Int)) = false := by simp; omega
        have hkn : k < 8 * n := by omega
        obtain ⟨z, hz⟩ : ∃ z, z = (unp b).getD k 0 := ⟨_, rfl⟩
        have hz1 : z ≤ 1 := by rw [hz]; exact getD_bt (unp_bt b) _ _ (by omega)
        have HBT := Lib.hid (bit_any A b n c k wr (HA.out.up hrow.2) HB.out HL.out hn hkn)
        have HDB : Hid ((unp b).drop k = z :: (unp b).drop (k + 1)) := Lib.hid (by rw [hz]; exact drop_bit b k (by have := HL.out; omega))
        rw [← hz] at HBT
        have hRw : Rdy wr := HR.out.below hrow.2
        have hp29 : 2 ^ L ≤ 2 ^ 29 := Nat.pow_le_pow_right (by decide) hL
        have hFb : F < 536870912 := by have := hO.low; omega
        have ho1b : o1 ≤ 29 := by have := hO.le; omega
        have hSb : sh L ≤ 256 := (ct_le ⟨L, by omega⟩).2
        obtain ⟨L2, hL2⟩ : ∃ L2, L2 = L + 1 := ⟨_, rfl⟩
        obtain ⟨o2, ho2⟩ : ∃ o2, o2 = o1 + z := ⟨_, rfl⟩
        obtain ⟨F2, hF2⟩ : ∃ F2, F2 = 2 * F + z := ⟨_, rfl⟩
        obtain ⟨C, hC⟩ : ∃ C, C = Hf.ct L2 := ⟨_, rfl⟩
        have cc : wr.cell? ⟨0, L2, none⟩ = some (.int .i64 (C : Int)) := by rw [hC]; exact hRw.ct L2 (by omega)
        have hC32 : C ≤ 32 := by rw [hC]; exact (ct_le ⟨L2, by omega⟩).1
        have eL : (L : Int) + 1 = (L2 : Int) := by omega
        have eo : (o1 : Int) + (z : Int) = (o2 : Int) := by omega
        have eF : 2 * (F : Int) + (z : Int) = (F2 : Int) := by omega
        have hL2b : (L2 : Int) < 31 := by omega
        have hF2b : F2 ≤ 1073741824 := by omega
        obtain ⟨S, hS⟩ : ∃ S, S = sh L := ⟨_, rfl⟩
        rw [← hS]
        rw [← hS] at hSb
        have HS := Lib.hid hS
        have HO := Lib.hid hO
        have HRUN := Lib.hid hrun
        have HROW := Lib.hid hrow
        have HL2 := Lib.hid hL2
        have HF2 := Lib.hid hF2
        have HC := Lib.hid hC
        have HO2 := Lib.hid ho2
        clear hz hrun hrow hO hp29 hL2 hF2 hC hRw hS ho2
        by_cases hlt : F2 < C
        · have hlt' : (F2 : Int) < (C : Int) := by omega
          have q1 : decide ((F2 : Int) < (C : Int)) = true := decide_eq_true hlt'
          go_wp2_with fail
          with_reducible refine (HBT.out).mono ?_
          rintro e w1 ⟨rfl, rfl⟩
          go_wp2
          go_step3
          have hL30 : L < 30 := by omega
          have hFc : F2 < Hf.ct (L + 1) := by rw [← HL2.out, ← HC.out]; exact hlt
          obtain ⟨h1, h2, h3⟩ := found_in hL30 hFc
          refine ⟨⟨_, _, _, _, k + 1, S, F2, o, ⟨_, _, _, _, _, _, _, _, _, _, _, _, _, _, _, _, _, _, _, _, _, _, _, _, _, _, _, _, _, _, _, _, _, _, _, _, _, _, _, _, _, _, _, _, _, _, _, _, _, _, _, _, _, _, _, rfl⟩, by omega, by omega, by omega, by rw [HS.out]; exact h3, by omega, ?_, HROW.out⟩, ?_⟩
          · have hn2 := HF2.out
            rw [← HRUN.out, HDB.out, run_hit HO.out.low hL (i := byc.getD (sh L + F2) 0) (by rw [show 2 * (lm L + F) + z = 2 * lm L + F2 by omega]; exact h1), if_neg (by omega), HS.out]
          · simp [Dμ, intOf]
            omega
        · have hlt' : ¬ (F2 : Int) < (C : Int) := by omega
          have q1 : decide ((F2 : Int) < (C : Int)) = false := decide_eq_false hlt'
          by_cases h30 : L2 = 30
          · have q3 : ((L2 : Int) == 30) = true := by simp; omega
            have HDD : Hid (D = ([], 2)) := Lib.hid (by
              have hl29 : L = 29 := by have := HL2.out; omega
              have h3 : 3 ≤ F2 := by have := HC.out; rw [h30, last_all.2.2.1] at this; omega
              have hn2 := HF2.out
              have hlow := (HO.out.next hz1).low
              rw [hl29] at hlow
              have e : 2 * (lm L + F) + z = 2 * lm 29 + F2 := by rw [hl29]; omega
              rw [HD.out, ← HRUN.out, HDB.out, run_hit HO.out.low hL (i := 256) (by rw [e, show L + 1 = 30 by omega]; exact found_end h3 (by omega)), if_pos rfl])
            clear h30
            go_wp2_with fail
            with_reducible refine (HBT.out).mono ?_
            rintro e w1 ⟨rfl, rfl⟩
            go_wp2
            simp only [jumpsTo]
            go_ret2
            rw [HDD.out]
            exact ⟨none, 0, rfl, at_nil _ _ _ _, fun _ => rfl, HROW.out.2⟩
          · have q3 : ((L2 : Int) == 30) = false := by simp; omega
            obtain ⟨F3, hF3⟩ : ∃ F3, F3 = F2 - C := ⟨_, rfl⟩
            obtain ⟨S2, hS2⟩ : ∃ S2, S2 = S + C := ⟨_, rfl⟩
            have eF3 : (F2 : Int) - (C : Int) = (F3 : Int) := by omega
            have eS2 : (S : Int) + (C : Int) = (S2 : Int) := by omega
            have HF3 := Lib.hid hF3
            have HS2 := Lib.hid hS2
            clear hF3 hS2
            go_wp2_with fail
            with_reducible refine (HBT.out).mono ?_
            rintro e w1 ⟨rfl, rfl⟩
            go_wp2
            go_step3
            have hl2 := HL2.out
            have hL29 : L < 29 := by omega
            have hnx := next_all ⟨L, hL29⟩
            simp only at hnx
            rw [← hl2, ← HC.out] at hnx
            have hn2 := HF2.out
            have hn3 := HF3.out
            have eW : 2 * (lm L + F) + z = lm L2 + F3 := by omega
            have eS : S2 = sh L2 := by rw [hnx.1, HS2.out, HS.out]
            rw [eS]
            refine ⟨⟨_, _, k + 1, L2, o2, F3, o, ⟨_, _, _, _, _, _, _, _, _, _, _, _, _, _, _, _, _, _, _, _, _, _, _, _, _, _, _, _, _, _, _, _, _, _, _, _, _, _, _, _, _, _, _, _, _, _, _, _, _, _, _, _, _, _, _, rfl⟩, by omega, by omega, by omega, ?_, ?_, HROW.out⟩, ?_⟩
            · have := HO.out.next hz1
              rw [eW, ← HO2.out, ← hl2] at this
              exact this
            · rw [← HRUN.out, HDB.out, run_low HO.out.low hL (by rw [show 2 * (lm L + F) + z = 2 * lm L + F2 by omega]; exact found_not hL29 (by rw [← hl2, ← HC.out]; omega)), eW, ← hl2]
            · simp [Dμ, intOf]
              omega
    | 3, hJ =>
      obtain ⟨x6, x8, x9, x10, k, S, F, o, ⟨u13, u14, u15, u16, u17, u18, u19, u20, u21, u22, u23, u24, u25, u26, u27, u28, u29, u30, u31, u32, u33, u34, u35, u36, u37, u38, u39, u40, u41, u42, u43, u44, u45, u46, u47, u48, u49, u50, u51, u52, u53, u54, u55, u56, u57, u58, u59, u60, u61, u62, u63, u64, u65, u66, u67, rfl⟩, hk, hS, hF, hSF, ho, hdec, hrow⟩ := hJ
      refine ⟨_, rfl, ?_⟩
      obtain ⟨A8, c8, hv8⟩ := own_shape hrow.1
      subst hv8
      have HDEC := Lib.hid hdec
      clear hdec
      by_cases hlong : most ≤ (o.length : Int)
      · have q : decide (most ≤ (o.length : Int)) = true := decide_eq_true hlong
        have HROW := Lib.hid hrow
        clear hrow
        go_wp2
        simp only [jumpsTo]
        go_ret2
        rw [HD.out, HDEC.out, if_pos hlong]
        exact ⟨none, 0, rfl, at_nil _ _ _ _, fun _ => rfl, HROW.out.2⟩
      · have q : decide (most ≤ (o.length : Int)) = false := decide_eq_false hlong
        obtain ⟨I, hI⟩ : ∃ I, I = S + F := ⟨_, rfl⟩
        have eI : (S : Int) + (F : Int) = (I : Int) := by omega
        have hI2 : (I : Int) < 256 := by omega
        obtain ⟨y, hy⟩ : ∃ y, y = byc.getD (S + F) 0 := ⟨_, rfl⟩
        have HI := Lib.hid hI
        have HY := Lib.hid hy
        have hbs : I < byB.size := by rw [show byB.size = 256 by kernel_rfl]; omega
        have hG : (byB[I]'hbs).toNat = y := by rw [by_get, hy, hI]
        have HNX : Hid (run most ((unp b).drop k) 0 0 (o ++ [y]) = dec b most) := Lib.hid (by rw [HDEC.out, if_neg hlong, hy])
        clear hI hy HDEC HI HY
        go_wp2_with (at_builtin; refine wpList_append_at rfl (.tmp 53) (.tmp 58) rfl w.heap.size _ o rfl (hrow.1.alloc _) (some ⟨wr.heap.size, 0, none⟩) [y] _ 1 rfl rfl (fun h => by cases h) _ (At.new wr [y] 5 (0, 0)) ?_ ?_ ?_; (rotate_right; intro v9 w9 hown9 hg9))
        · have hb9 := (hrow.2.alloc hrow.2.size _).grown hg9 (by have := hrow.2.size; simp; omega) (own_block hrow.1)
          clear hg9 hrow
          go_wp2
          go_step3
          refine ⟨⟨_, _, _, _, _, _, k, o ++ [y], ⟨_, _, _, _, _, _, _, _, _, _, _, _, _, _, _, _, _, _, _, _, _, _, _, _, _, _, _, _, _, _, _, _, _, _, _, _, _, _, _, _, _, _, _, _, _, _, _, _, _, _, _, _, _, _, _, rfl⟩, hk, by simp; omega, HNX.out, hown9, hb9⟩, ?_⟩
          simp [Dμ, intOf]
        all_goals first | (simp; omega) | (have := hrow.2.size; simp; omega) | simp
theorem dec_f (A : Option Addr) (l : List Nat) (n c : Nat) (most : Int) (w : World) (hR : Rdy w) (hA : At .u8 w w.heap.size A l) (hb : ∀ x ∈ l, x < 256) (hl : l.length = n) (_ : A = none → c = 0) (_ : n ≤ c) (hn : n ≤ 20000) :
    Calls Tryd.prog 81 #[.slice A n c, .int .i64 most] w (DecPost w (dec l most)) := dec_any A l n c most w hR hA hb hl hn
end Go.Proofs.YtiandidencnlcaaDoor
