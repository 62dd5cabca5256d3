/- Contracts of the landed Code and Bits. They turn nothing in the world. -/
import Derived.Test.YtiandidencnlcaaDoorHEnc
import Derived.Test.YtiandidencnlcaaDoorHLand
import Derived.Test.YtiandidencnlcaaDoorPGetD
import Derived.Laws.Externs
import Derived.Lib.Bytealg
import Derived.WalkMore
import Derived.ScopeJumps
import Derived.Deep.RegionHeld3
namespace Go.Proofs.YtiandidencnlcaaDoor
open Go.RowKit Hf

theorem run_ix (s : ByteArray) (c : Nat) (w : World) : (callFunc 87 #[.string s, .int .u8 (c : Int)]).run Tryd.prog w = .ok (.value (.int .i64 (firstIdx s c.toUInt8))) w := by
  rw [run_callFunc_extern (f := 87) (fn := Tryd.f87) Tryd.func87 (by kernel_rfl) (by kernel_rfl) (by kernel_rfl) (e := Go.Extern.BytealgIndexByte.indexByte) (by rfl), run_indexByte_string]
  simp [Result.andThen]
theorem ixl_any (s : ByteArray) (c : Nat) (w : World) : Calls Tryd.prog 86 #[.string s, .int .u8 (c : Int)] w fun e w' => e = .returned (.int .i64 (firstIdx s c.toUInt8)) ∧ w' = w := by
  have hr := run_ix s c
  go_enter Tryd.func86, Tryd.ntmps86
  go_wp2
  go_ret
  exact ⟨rfl, rfl⟩
theorem ix_any (s : ByteArray) (c : Nat) (w : World) : Calls Tryd.prog 85 #[.string s, .int .u8 (c : Int)] w fun e w' => e = .returned (.int .i64 (firstIdx s c.toUInt8)) ∧ w' = w := by
  go_enter Tryd.func85, Tryd.ntmps85
  go_wp2_with fail
  with_reducible refine (ixl_any s c w).mono ?_
  rintro e w1 ⟨rfl, rfl⟩
  go_wp2
  go_ret
  exact ⟨rfl, rfl⟩
set_option maxRecDepth 100000 in
theorem ix_tab : ∀ x : Fin 256, firstIdx byB (x.1.toUInt8) = ((plc x.1 : Nat) : Int) := of_decide_eq_true (by kernel_rfl)
theorem ix_by (x : Nat) (hx : x < 256) (w : World) : Calls Tryd.prog 85 #[.string byB, .int .u8 (x : Int)] w fun e w' => e = .returned (.int .i64 ((plc x : Nat) : Int)) ∧ w' = w := by
  have h := ix_any byB x w
  rw [ix_tab ⟨x, hx⟩] at h
  exact h
/-- Code's frame at the label. -/
def CdF (x : Nat) (p f l : Nat) (a : Act) : Prop := ∃ u7 u8 u9 u10 u11 u12 u13 u14 u15 u16 u17 u18 u19 u20 u21 u22 u23 u24 u25 u26 u27 u28 u29 u30 u31 u32 : Value, a = { tmps := #[.int .u8 (x : Int), undef, .int .u32 0, .int .i64 0, .int .i64 (p : Int), .int .i64 (f : Int), .int .i64 (l : Int), u7, u8, u9, u10, u11, u12, u13, u14, u15, u16, u17, u18, u19, u20, u21, u22, u23, u24, u25, u26, u27, u28, u29, u30, u31, u32], defers := [] }
def CdJ (w : World) (x : Nat) (a : Act) (w' : World) : Prop := ∃ p f l : Nat, w' = w ∧ CdF x p f l a ∧ l < 30 ∧ p < 256 ∧ f ≤ 32 * (2 ^ l - 1) ∧ cst (30 - l) f l p = some (cd x, ln x)
set_option maxRecDepth 100000 in
set_option maxHeartbeats 4000000 in
theorem code_any (x : Nat) (w : World) (hR : Rdy w) (hx : x < 256) : Calls Tryd.prog 82 #[.int .u8 x] w fun e w' => e = .returned (.tuple #[.int .u32 ((cd x : Nat) : Int), .int .i64 ((ln x : Nat) : Int)]) ∧ w' = w := by
  have hall := cst_all ⟨x, hx⟩
  simp only at hall
  have HX := Lib.hid hx
  have HR := Lib.hid hR
  have c1 : w.cell? ⟨0, 1, none⟩ = some (.int .i64 0) := hR.ct 1 (by omega)
  obtain ⟨r1, hr1⟩ : ∃ r, r = cd x := ⟨_, rfl⟩
  obtain ⟨r2, hr2⟩ : ∃ r, r = ln x := ⟨_, rfl⟩
  rw [← hr1, ← hr2]
  have HR1 := Lib.hid hr1
  have HR2 := Lib.hid hr2
  have hp := hall.2
  have HC : Hid (cst 29 0 1 (plc x) = some (r1, r2)) := Lib.hid (by
    have h := hall.1
    rw [cst, show Hf.ct (0 + 1) = 0 from rfl, if_pos (Nat.zero_le _)] at h
    rw [hr1, hr2]
    exact h)
  clear hR hx hall hr1 hr2
  go_enter Tryd.func82, Tryd.ntmps82
  go_wp2
  refine wp_scope_jumps 0 (CdJ w x) (fun a' _ => 31 - (intOf (a'.tmps.getD 6 undef)).toNat) rfl ?_ ?_
  · go_wp2_with fail
    with_reducible refine (ix_by x HX.out w).mono ?_
    rintro e w1 ⟨rfl, rfl⟩
    generalize plc x = p at hp HC
    go_wp2
    go_step3
    go_wp2
    go_step3
    refine ⟨rfl, p, 0, 1, rfl, ⟨_, _, _, _, _, _, _, _, _, _, _, _, _, _, _, _, _, _, _, _, _, _, _, _, _, _, rfl⟩, by omega, hp, by omega, ?_⟩
    rw [← HR1.out, ← HR2.out]
    exact HC.out
  · rintro a' w' ⟨p, f, l, rfl, ⟨u7, u8, u9, u10, u11, u12, u13, u14, u15, u16, u17, u18, u19, u20, u21, u22, u23, u24, u25, u26, u27, u28, u29, u30, u31, u32, rfl⟩, hl, hp, hf, hc⟩
    obtain ⟨m, hm⟩ : ∃ m, m = l + 1 := ⟨_, rfl⟩
    obtain ⟨c, hc0⟩ : ∃ c, c = Hf.ct m := ⟨_, rfl⟩
    have cc : w'.cell? ⟨0, m, none⟩ = some (.int .i64 (c : Int)) := by rw [hc0]; exact HR.out.ct m (by omega)
    have hc32 : c ≤ 32 := by rw [hc0]; exact (ct_le ⟨m, by omega⟩).1
    have hst : cst (30 - l) f l p = if c ≤ p then cst (30 - m) (2 * f + c) m (p - c) else some (2 * f + p, m) := by rw [hc0, hm, show 30 - l = (30 - (l + 1)) + 1 by omega, cst]
    rw [hst, ← HR1.out, ← HR2.out] at hc
    have hp2 : (2 : Nat) ^ l ≤ 2 ^ 29 := Nat.pow_le_pow_right (by decide) (by omega)
    have hf2 : f ≤ 17179869184 := by omega
    have em : (l : Int) + 1 = (m : Int) := by omega
    have mi : (m : Int) < 31 := by omega
    have HM := Lib.hid hm
    have HF := Lib.hid hf
    have hr1 : r1 < 4294967296 := by
      have h2 := (tab_lim ⟨x, by have := HX.out; omega⟩)
      simp only at h2
      have : 2 ^ ln x ≤ 2 ^ 30 := Nat.pow_le_pow_right (by decide) h2.2.2.1
      rw [HR1.out]
      omega
    clear hst hc0 hm hf hp2
    by_cases hcp : c ≤ p
    · rw [if_pos hcp] at hc
      obtain ⟨p2, hp2⟩ : ∃ p2, p2 = p - c := ⟨_, rfl⟩
      obtain ⟨f2, hf3⟩ : ∃ f2, f2 = 2 * f + c := ⟨_, rfl⟩
      rw [← hp2, ← hf3] at hc
      have HC2 := Lib.hid hc
      have hcp' : (c : Int) ≤ (p : Int) := by omega
      have q : decide ((c : Int) ≤ (p : Int)) = true := decide_eq_true hcp'
      have e1 : (p : Int) - (c : Int) = (p2 : Int) := by omega
      have e2 : 2 * (f : Int) + (c : Int) = (f2 : Int) := by omega
      have HP2 := Lib.hid hp2
      have HF3 := Lib.hid hf3
      clear hc hp2 hf3
      go_wp2
      go_step3
      have hm30 : m < 30 := by
        rcases Nat.lt_or_ge m 30 with h | h
        · exact h
        · have h2 := HC2.out
          rw [show 30 - m = 0 by omega, cst] at h2
          cases h2
      refine ⟨rfl, ⟨p2, f2, m, rfl, ⟨_, _, _, _, _, _, _, _, _, _, _, _, _, _, _, _, _, _, _, _, _, _, _, _, _, _, rfl⟩, hm30, by have := HP2.out; omega, ?_, ?_⟩, ?_⟩
      · have h1 := HF.out
        rw [HM.out, Nat.pow_succ, HF3.out]
        have : 1 ≤ 2 ^ l := Nat.one_le_two_pow
        omega
      · rw [← HR1.out, ← HR2.out]
        exact HC2.out
      · have := HM.out
        simp [intOf]
        omega
    · rw [if_neg hcp] at hc
      injection hc with hc
      injection hc with h1 h2
      have q : decide ((c : Int) ≤ (p : Int)) = false := decide_eq_false (by omega)
      have hcp' : ¬ (c : Int) ≤ (p : Int) := by omega
      have e2 : 2 * (f : Int) + (p : Int) = (r1 : Int) := by omega
      have e3 : IntKind.u32.wrap (r1 : Int) = (r1 : Int) := by rw [IntKind.wrap_u32']; omega
      have e4 : (m : Int) = (r2 : Int) := by omega
      have H2 := Lib.hid e4
      clear h1 h2 e4
      go_wp2
      simp only [Exit.jump]
      go_ret2
      rw [H2.out]
      exact ⟨rfl, rfl⟩
def CodePost (w : World) (x : Nat) (e : Ending) (w' : World) : Prop := e = .returned (.tuple #[.int .u32 ((cd x : Nat) : Int), .int .i64 ((ln x : Nat) : Int)]) ∧ Below w.heap.size w w'
theorem code_f (x : Nat) (w : World) (hR : Rdy w) (hx : x < 256) : Calls Tryd.prog 82 #[.int .u8 x] w (CodePost w x) := by
  refine (code_any x w hR hx).mono ?_
  rintro e w1 ⟨rfl, rfl⟩
  exact ⟨rfl, Below.refl _ _⟩
end Go.Proofs.YtiandidencnlcaaDoor
/- Contract of the landed Encode. -/
namespace Go.Proofs.YtiandidencnlcaaDoor
open Go.RowKit Hf

/-- An append onto a row of the call's own in a region that draws its order. -/
theorem step_app {ops : Array Oper} {o : Oper} {a : Act} {w : World} {K : Act → World → Prop} {Q : Exit → Act → World → Prop} {E : Prop} (hgd : o.guard = none) (s x : Operand)
    (ho : o.op = .call { callee := .builtin .append, args := #[s, x], argTypes := #[34, 34] }) (base : Nat)
    (v : Value) (n : Nat) (l : List Nat) (hs : a.eval s = v) (hown : w.ownsRow base 5 1 v n (cn .u8 l))
    (ad : Addr) (m : List Nat) (c : Nat) (hx : a.eval x = .slice (some ad) m.length c) (hm : ∀ j u, (cn .u8 m)[j]? = some u → w.cell? (ad.add j) = some u) (hlen : n + m.length ≤ 1000000) (hbase : base ≤ w.heap.size)
    (h : ∀ v' w', w'.ownsRow base 5 1 v' (n + m.length) (cn .u8 (l ++ m)) → w.grownBy w' v.ownBlock → K (a.put o.dst v') w') :
    if Region.wanted o (yielded ops a.tmps) = true then Oper.wp Tryd.prog o a w K Q else E := by
  obtain ⟨i0, hi0, hz0, hz1, hz2⟩ := info_parts infoU8
  have hw : Region.wanted o (yielded ops a.tmps) = true := by simp [Region.wanted, hgd]
  rw [if_pos hw]
  refine wp_append_own w s x 34 ho base 5 i0 _ 1 1 Tryd.underlying34 hi0 hz0 hz1 hz2 rfl (by decide) v n (cn .u8 l) hs hown ad m.length c (cn .u8 m) hx (by simp [cn]) hm (cn_one _ _) ?_ ?_ hbase ?_
  · unfold maxLen; omega
  · omega
  · intro v' w' h1 h2 _
    rw [cn_app] at h1
    exact h v' w' h1 h2
def EoR (w : World) (l : List Nat) (v b h i : Value) (wr : World) : Prop :=
  ∃ (k c H : Nat) (B : List Nat), k ≤ l.length ∧ B = eBits (l.take k) ∧ i = .int .i64 (k : Int) ∧ B.length = 8 * c + H ∧ H < 8 ∧ b = .int .u64 ((hld B c : Nat) : Int) ∧ h = .int .i64 (H : Int) ∧ Row w.heap.size w (full B c) v wr
def EiR (w : World) (B : List Nat) (v b h : Value) (wr : World) : Prop :=
  ∃ c H : Nat, B.length = 8 * c + H ∧ H ≤ 37 ∧ b = .int .u64 ((hld B c : Nat) : Int) ∧ h = .int .i64 (H : Int) ∧ Row w.heap.size w (full B c) v wr
theorem rest_ones : ∀ H : Fin 8, 255 / 2 ^ H.1 = 2 ^ (8 - H.1) - 1 := by decide +kernel
set_option maxRecDepth 100000 in
set_option maxHeartbeats 8000000 in
theorem enc_any (A : Option Addr) (l : List Nat) (n c : Nat) (w : World) (hR : Rdy w) (hA : At .u8 w w.heap.size A l) (hb : ∀ x ∈ l, x < 256) (hl : l.length = n) (hn : n ≤ 20000) :
    Calls Tryd.prog 79 #[.slice A n c] w (RowPost w.heap.size w (enc l)) := by
  have HA := Lib.hid hA
  have HB := Lib.hid hb
  have HL := Lib.hid hl
  have HR := Lib.hid hR
  clear hA hb hl hR
  go_enter Tryd.func79, Tryd.ntmps79
  go_wp2
  go_loopw [3, 4, 5, 7, 8, 9, 12] (fun v b h _ _ _ i wr => EoR w l v b h i wr) (fun _ _ _ _ _ _ i _ => n - (intOf i).toNat)
  case atStart =>
    refine ⟨0, 0, 0, [], Nat.zero_le _, by simp [eBits], rfl, rfl, by omega, rfl, rfl, ?_, Below.refl _ _⟩
    exact World.ownsRow_nil _ _ _ _
  case round =>
    obtain ⟨k, c0, H, B, hk, hB, rfl, hBl, hH, rfl, rfl, hrow⟩ := hrel
    have hnb := nBits_le (l.take k)
    have hlk : (l.take k).length ≤ k := List.length_take_le _ _
    rw [← eBits_len, ← hB] at hnb
    have hBb : B.length ≤ 600000 := by have := HL.out; omega
    have hBt : Bt B := by rw [hB]; exact eBits_bt _
    have hX := hld_lt hBt c0
    rw [show B.length - 8 * c0 = H by omega] at hX
    have hX7 : 2 ^ H ≤ 2 ^ 7 := Nat.pow_le_pow_right (by decide) (by omega)
    clear hnb hlk
    by_cases hlt : k < n
    · have hkl : k < l.length := by have := HL.out; omega
      obtain ⟨b, o, rfl, hb0, hc⟩ := HA.out.pos (by omega)
      obtain ⟨x, hx⟩ : ∃ x, x = l[k] := ⟨_, rfl⟩
      have cx : wr.cell? ⟨b, o + k, none⟩ = some (.int .u8 (x : Int)) := by rw [hrow.2.cell (p := ⟨b, o + k, none⟩) hb0, hx]; exact hc k hkl
      have hx2 : x < 256 := by rw [hx]; exact HB.out _ (List.getElem_mem _)
      have h30 := ln_le x
      have hCl : cd x < 2 ^ ln x := (tab_lim ⟨x, by omega⟩).2.2.2
      have h30p : 2 ^ ln x ≤ 2 ^ 30 := Nat.pow_le_pow_right (by decide) h30
      have HC := Lib.hid (code_any x wr (HR.out.below hrow.2) hx2)
      obtain ⟨B2, hB2⟩ : ∃ B2, B2 = B ++ bOf x := ⟨_, rfl⟩
      have HE : Hid (B2 = eBits (l.take (k + 1))) := Lib.hid (by rw [eBits_next l k hkl, hB2, hB, hx])
      have hB2l : B2.length = 8 * c0 + (H + ln x) := by rw [hB2, List.length_append, bOf_len]; omega
      have HBT2 : Hid (Bt B2) := Lib.hid (by rw [hB2]; exact Bt.app hBt (bOf_bt x))
      have hX3 : hld B2 c0 = hld B c0 * 2 ^ ln x + cd x := by rw [hB2]; exact hld_app B x c0 (by omega) (by omega)
      have hrow2 : Row w.heap.size w (full B2 c0) u3 wr := by rw [hB2, full_app B _ c0 (by omega)]; exact hrow
      have hB2b : B2.length ≤ 600030 := by omega
      generalize hld B c0 = X at hX hX3
      generalize ln x = L at h30 hCl h30p HC hB2l hX3
      generalize cd x = C at hCl HC hX3
      obtain ⟨P, hP⟩ : ∃ P, P = 2 ^ L := ⟨_, rfl⟩
      rw [← hP] at hCl h30p hX3
      obtain ⟨X2, hX2⟩ : ∃ X2, X2 = X * P := ⟨_, rfl⟩
      have hX2l : X2 < 137438953472 := by
        have h1 : X * P ≤ 127 * P := Nat.mul_le_mul_right P (by omega)
        rw [hX2]
        omega
      have e1 : IntKind.u64.wrap ((X : Int) * 2 ^ L) = (X2 : Int) := by
        rw [show ((2 : Int) ^ L) = ((2 ^ L : Nat) : Int) by simp, ← hP, ← Int.natCast_mul, ← hX2]
        exact u64w _ (by omega) (by omega)
      have e2 : IntKind.u64.wrap (C : Int) = (C : Int) := u64w _ (by omega) (by omega)
      obtain ⟨X3, hX3'⟩ : ∃ X3, X3 = X2 + C := ⟨_, rfl⟩
      have e3 : bits BinOp.or IntKind.u64 (X2 : Int) (C : Int) = (X3 : Int) := by
        rw [u64_or_nat _ _ (by omega) (by omega), nat_join L X2 C (by rw [hX2, hP]; exact Nat.mul_mod_left _ _) (by rw [← hP]; exact hCl), hX3']
      have HX3 : Hid (X3 = hld B2 c0) := Lib.hid (by rw [hX3, hX3', hX2])
      have eL : IntKind.u64.wrap (L : Int) = (L : Int) := u64w _ (by omega) (by omega)
      obtain ⟨H2, hH2⟩ : ∃ H2, H2 = H + L := ⟨_, rfl⟩
      have eH : (H : Int) + (L : Int) = (H2 : Int) := by omega
      have ki : (k : Int) < (n : Int) := by omega
      have hr0 : EiR w B2 u3 (.int .u64 (X3 : Int)) (.int .i64 (H2 : Int)) wr := ⟨c0, H2, by omega, by omega, by rw [HX3.out], rfl, hrow2⟩
      clear hx hc hkl hB hB2 hrow hrow2 hX hX7 hX3 hX3' hX2 hP hCl h30p hBt hBl hBb hH2 hB2l
      go_wp2_with fail
      with_reducible refine (HC.out).mono ?_
      rintro e w1 ⟨rfl, rfl⟩
      go_wp2
      go_loopw [3, 4, 5] (fun v b h wr => EiR w B2 v b h wr) (fun _ _ h _ => (intOf h).toNat)
      case atStart => exact hr0
      case round =>
        clear hr0 cx HC e1 e2 e3 eL eH HX3
        obtain ⟨c1, G, hl1, hG, rfl, rfl, hrow⟩ := hrel
        have hY := hld_lt HBT2.out c1
        rw [show B2.length - 8 * c1 = G by omega] at hY
        by_cases h8 : 8 ≤ G
        · obtain ⟨D, hD⟩ : ∃ D, D = G - 8 := ⟨_, rfl⟩
          have hn2 := hld_next HBT2.out c1 D (by omega)
          have hyb := byteAt_lt HBT2.out c1
          have hG37 : 2 ^ G ≤ 2 ^ 37 := Nat.pow_le_pow_right (by decide) hG
          have hfl : (full B2 c1).length = c1 := full_len _ _
          have HFN : Hid (full B2 (c1 + 1) = full B2 c1 ++ [byteAt B2 c1]) := Lib.hid (full_next _ _)
          generalize byteAt B2 c1 = y at hn2 hyb HFN
          obtain ⟨Y2, hY2⟩ : ∃ Y2, Y2 = hld B2 (c1 + 1) := ⟨_, rfl⟩
          rw [← hY2] at hn2
          have HY2 := Lib.hid hY2
          generalize hld B2 c1 = Y at hY hn2
          generalize full B2 c1 = F at hrow hfl HFN
          have e4 : (Y : Int) / 2 ^ D = (y : Int) := by rw [← hn2.1, show ((2 : Int) ^ D) = ((2 ^ D : Nat) : Int) by simp, ← Int.natCast_ediv]
          have e5 : IntKind.u8.wrap (y : Int) = (y : Int) := by rw [IntKind.wrap_u8']; omega
          have emD : min D 64 = D := Nat.min_eq_left (by omega)
          have e5' : (y : Int) % 256 = (y : Int) := by omega
          have eD : (G : Int) - 8 = (D : Int) := by omega
          have eDi : IntKind.i64.wrap (D : Int) = (D : Int) := IntWalk.i64_in _ (by omega)
          have eDw : IntKind.u64.wrap (D : Int) = (D : Int) := u64w _ (by omega) (by omega)
          obtain ⟨P2, hP2⟩ : ∃ P2, P2 = 2 ^ D := ⟨_, rfl⟩
          have hP2l : P2 ≤ 536870912 := by have : 2 ^ D ≤ 2 ^ 29 := Nat.pow_le_pow_right (by decide) (by omega); omega
          have hP21 : 1 ≤ P2 := by rw [hP2]; exact Nat.one_le_two_pow
          have e6 : IntKind.u64.wrap (2 ^ D) = (P2 : Int) := by
            rw [show ((2 : Int) ^ D) = ((2 ^ D : Nat) : Int) by simp, ← hP2]
            exact u64w _ (by omega) (by omega)
          obtain ⟨M, hM⟩ : ∃ M, M = P2 - 1 := ⟨_, rfl⟩
          have e7 : (P2 : Int) - 1 = (M : Int) := by omega
          have e7' : IntKind.u64.wrap ((P2 : Int) - 1) = (M : Int) := by rw [e7]; exact u64w _ (by omega) (by omega)
          have e8 : bits BinOp.and IntKind.u64 (Y : Int) (M : Int) = (Y2 : Int) := by
            rw [u64_and_nat _ _ (by omega) (by omega), hM, hP2, Nat.and_two_pow_sub_one_eq_mod, hn2.2]
          have h8' : (8 : Int) ≤ (G : Int) := by omega
          have HLN := Lib.hid hl1
          have HDD := Lib.hid hD
          have hc1 : c1 ≤ 75100 := by omega
          have HG := Lib.hid hG
          obtain ⟨A8, c8, hv8⟩ := own_shape hrow.1
          subst hv8
          clear hY hn2 hY2 hP2 hM hG37 hl1 hD hG
          go_wp2_with (at_builtin; go_loud (refine wpList_append_at rfl (.tmp 34) (.tmp 39) rfl w.heap.size _ F rfl (hrow.1.alloc _) (some ⟨wr.heap.size, 0, none⟩) [y] _ 1 rfl rfl (fun h => by cases h) _ (At.new wr [y] 5 (0, 0)) ?_ ?_ ?_); (rotate_right; intro v9 w9 hown9 hg9))
          · have hb9 := (hrow.2.alloc hrow.2.size _).grown hg9 (by have := hrow.2.size; simp; omega) (own_block hrow.1)
            clear hg9 hrow
            go_wp2
            go_roundw
            case rel =>
              refine ⟨c1 + 1, D, by have := HLN.out; have := HDD.out; omega, by have := HDD.out; have := HG.out; omega, by rw [HY2.out], rfl, ?_, hb9⟩
              rw [HFN.out]
              exact hown9
            case measure => have := HDD.out; simp [intOf]; omega
          all_goals first | (simp; omega) | (have := hrow.2.size; simp; omega) | simp
        · have h8' : ¬ (8 : Int) ≤ (G : Int) := by omega
          have HROW := Lib.hid hrow
          generalize hX9 : hld B2 c1 = Y
          have HX9 := Lib.hid hX9
          clear hrow hY hX9
          go_wp2
          go_roundw
          case rel =>
            exact ⟨k + 1, c1, G, B2, by have := HL.out; omega, HE.out, by go_num, hl1, by omega, by rw [HX9.out], rfl, HROW.out⟩
          case measure => simp [intOf]; omega
    · obtain rfl : k = n := by have := HL.out; omega
      have e : l.take k = l := List.take_of_length_le (by have := HL.out; omega)
      rw [e] at hB
      have ki : ¬ (k : Int) < (k : Int) := by omega
      by_cases hH0 : H = 0
      · subst hH0
        have HF : Hid (full B c0 = enc l) := Lib.hid (by rw [enc, ← hB, full_pack]; congr 1; omega)
        rw [HF.out] at hrow
        generalize hld B c0 = X
        clear hX hX7
        go_wp2
        go_ret
        exact ⟨_, rfl, hrow⟩
      · have HF : Hid (full B c0 ++ [byteAt B c0] = enc l) := Lib.hid (by rw [enc, ← hB, full_pack, ← full_next]; congr 1; omega)
        have hbv := byteAt_part B c0 H hH hBl
        have hyb := byteAt_lt hBt c0
        have hfl : (full B c0).length = c0 := full_len _ _
        rw [show hld B c0 = val (B.drop (8 * c0)) from rfl] at *
        generalize val (B.drop (8 * c0)) = X at hbv hX
        generalize byteAt B c0 = y at hbv hyb HF
        generalize full B c0 = F at hrow HF hfl
        obtain ⟨G, hG⟩ : ∃ G, G = 8 - H := ⟨_, rfl⟩
        rw [← hG] at hbv
        obtain ⟨Q2, hQ2⟩ : ∃ Q2, Q2 = 2 ^ G := ⟨_, rfl⟩
        rw [← hQ2] at hbv
        have hQ1 : 1 ≤ Q2 := by rw [hQ2]; exact Nat.one_le_two_pow
        obtain ⟨Z1, hZ1⟩ : ∃ Z1, Z1 = X * Q2 := ⟨_, rfl⟩
        obtain ⟨Z2, hZ2⟩ : ∃ Z2, Z2 = Q2 - 1 := ⟨_, rfl⟩
        rw [← hZ1, ← hZ2] at hbv
        have eG : (8 : Int) - (H : Int) = (G : Int) := by omega
        have eGi : IntKind.i64.wrap (G : Int) = (G : Int) := IntWalk.i64_in _ (by omega)
        have eGw : IntKind.u64.wrap (G : Int) = (G : Int) := u64w _ (by omega) (by omega)
        have eHw : IntKind.u64.wrap (H : Int) = (H : Int) := u64w _ (by omega) (by omega)
        have f1 : IntKind.u64.wrap ((X : Int) * 2 ^ G) = (Z1 : Int) := by
          rw [show ((2 : Int) ^ G) = ((2 ^ G : Nat) : Int) by simp, ← hQ2, ← Int.natCast_mul, ← hZ1]
          exact u64w _ (by omega) (by omega)
        have f2 : IntKind.u8.wrap (Z1 : Int) = (Z1 : Int) := by rw [IntKind.wrap_u8']; omega
        have f3 : (255 : Int) / 2 ^ H = (Z2 : Int) := by
          have := rest_ones ⟨H, hH⟩
          simp only at this
          rw [← hG, ← hQ2, ← hZ2] at this
          rw [← this, show ((2 : Int) ^ H) = ((2 ^ H : Nat) : Int) by simp]
          simp
        have f4 : bits BinOp.or IntKind.u8 (Z1 : Int) (Z2 : Int) = (y : Int) := by
          rw [u8_or_nat _ _ (by omega) (by omega), nat_join G Z1 Z2 (by rw [hZ1, hQ2]; exact Nat.mul_mod_left _ _) (by rw [← hQ2]; omega), hbv]
        have h0' : (0 : Int) < (H : Int) := by omega
        have hG8 : (G : Int) ≤ 8 := by omega
        obtain ⟨A8, c8, hv8⟩ := own_shape hrow.1
        subst hv8
        subst hfl
        have hrow' := hrow
        have HOWN : Hid ((wr.alloc (.cells #[.int .u8 (y : Int)] 5)).drew.ownsRow w.heap.size 5 1 (.slice A8 F.length c8) F.length (cn .u8 F)) := Lib.hid (hrow.1.alloc (.cells #[.int .u8 (y : Int)] 5))
        have HNEW : Hid (∀ j u, (cn .u8 [y])[j]? = some u → (wr.alloc (.cells #[.int .u8 (y : Int)] 5)).drew.cell? ((⟨wr.heap.size, 0, none⟩ : Addr).add j) = some u) := Lib.hid (new_cells wr (cn .u8 [y]) 5)
        have HSZ : Hid (w.heap.size ≤ (wr.alloc (.cells #[.int .u8 (y : Int)] 5)).drew.heap.size) := Lib.hid (by
          have := hrow.2.size
          show w.heap.size ≤ (wr.alloc _).heap.size
          simp
          omega)
        have HROW := Lib.hid hrow'
        have hc9 : F.length + 1 ≤ 1000000 := by omega
        clear hrow hrow' hX hX7 hbv hZ1 hZ2 hQ2 hG hBl hBt hB hBb
        go_wp2
        go_region_held3 (fun _ => True) (trivial)
          ((refine step_app (by rfl) (.tmp 49) (.tmp 58) (by rfl) w.heap.size (.slice A8 F.length c8) F.length F (by rfl) HOWN.out ⟨wr.heap.size, 0, none⟩ [y] 1 (by rfl) HNEW.out hc9 HSZ.out ?_; intro v5 w9 hown5 hg5))
        have hbA : Below w.heap.size w (wr.alloc (.cells #[.int .u8 (y : Int)] 5)).drew := (HROW.out.2.alloc HROW.out.2.size _).drew
        have hb9 : Below w.heap.size w w9 := hbA.grown hg5 HSZ.out (own_block HROW.out.1)
        clear hg5
        go_wp2
        go_ret
        refine ⟨_, rfl, ?_, hb9⟩
        rw [← HF.out, List.length_append]
        exact hown5
theorem enc_f (A : Option Addr) (l : List Nat) (n c : Nat) (w : World) (hR : Rdy w) (hA : At .u8 w w.heap.size A l) (hb : ∀ x ∈ l, x < 256) (hl : l.length = n) (_ : A = none → c = 0) (_ : n ≤ c) (hn : n ≤ 20000) :
    Calls Tryd.prog 79 #[.slice A n c] w (RowPost w.heap.size w (enc l)) := enc_any A l n c w hR hA hb hl hn
end Go.Proofs.YtiandidencnlcaaDoor
