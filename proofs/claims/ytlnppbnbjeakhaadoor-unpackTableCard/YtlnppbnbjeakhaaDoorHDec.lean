/- Contracts of the reference's lengths and Codes. -/
import Derived.Test.YtlnppbnbjeakhaaDoorLMem
import Derived.Test.YtlnppbnbjeakhaaDoorHBits
import Derived.Great.BuildSlice
import Derived.Test.YtlnppbnbjeakhaaDoorHRead
import Derived.Deep.DeepCutAuto
namespace Go.Proofs.YtlnppbnbjeakhaaDoor
open Go.RowKit Hf

def LenPost (w : World) (e : Ending) (w' : World) : Prop := ∃ g, e = .returned (.slice (some ⟨g, 0, none⟩) 257 257) ∧ At .i64 w' w'.heap.size (some ⟨g, 0, none⟩) lens ∧ Below w.heap.size w w'
set_option maxRecDepth 100000 in
set_option maxHeartbeats 4000000 in
theorem lengths_any (w : World) : Calls Tryd.prog 62 #[] w (LenPost w) := by
  go_enter Tryd.func62, Tryd.ntmps62
  go_wp2_with (first | (refine wpList_buildFlat rfl 89 3 257 _ rfl .i64 (lens.map fun (x : Nat) => (x : Int)) (by kernel_rfl) (by kernel_rfl) (by kernel_rfl) (by kernel_rfl) (by decide) (by decide) (by kernel_rfl) ?_))
  go_ret
  exact ⟨w.heap.size, rfl, At.new w lens 3 (0, 0), (Below.refl _ _).alloc (Nat.le_refl _) _⟩
theorem infoU32 : (Tryd.prog.info? 92).map (fun i => (i.zero, i.size, i.bytes)) = some (some (.int .u32 0), 1, 4) := by kernel_rfl
theorem stp_lt (l i : Nat) (s : Nat × List Nat) (h : s.1 < 4294967296) : (stp l i s).1 < 4294967296 := by
  unfold stp
  split
  · exact Nat.mod_lt _ (by omega)
  · exact h
theorem stp_len (l i : Nat) (s : Nat × List Nat) : (stp l i s).2.length = s.2.length := by
  unfold stp
  split
  · simp
  · rfl
theorem inn_lt (l : Nat) (s : Nat × List Nat) (h : s.1 < 4294967296) : ∀ i, (inn l i s).1 < 4294967296
  | 0 => h
  | i + 1 => stp_lt l i _ (inn_lt l s h i)
theorem inn_len (l : Nat) (s : Nat × List Nat) : ∀ i, (inn l i s).2.length = s.2.length
  | 0 => rfl
  | i + 1 => (stp_len l i _).trans (inn_len l s i)
theorem outr_lt : ∀ l, (outr l).1 < 4294967296
  | 0 => by decide
  | l + 1 => by rw [outr_succ]; exact inn_lt _ _ (Nat.mod_lt _ (by omega)) _
theorem outr_len : ∀ l, (outr l).2.length = 257
  | 0 => by decide +kernel
  | l + 1 => by rw [outr_succ, inn_len]; exact outr_len l
/-- The table, a row of the call's own at block g. -/
def TabR (w : World) (g : Nat) (o : List Nat) (wr : World) : Prop := wr.ownsRow w.heap.size 92 1 (.slice (some ⟨g, 0, none⟩) 257 257) 257 (cn .u32 o) ∧ Below w.heap.size w wr
def CdO (w : World) (g : Nat) (c i : Value) (wr : World) : Prop := ∃ l : Nat, l ≤ 30 ∧ i = .int .i64 ((l : Int) + 1) ∧ c = .int .u32 ((outr l).1 : Int) ∧ TabR w g (outr l).2 wr
def CdI (w : World) (g l : Nat) (s : Nat × List Nat) (c i : Value) (wr : World) : Prop := ∃ k : Nat, k ≤ 257 ∧ i = .int .i64 (k : Int) ∧ c = .int .u32 ((inn l k s).1 : Int) ∧ TabR w g (inn l k s).2 wr
def CodesPost (w : World) (e : Ending) (w' : World) : Prop := ∃ A B, e = .returned (.tuple #[.slice (some A) 257 257, .slice (some B) 257 257]) ∧ At .u32 w' w'.heap.size (some A) cods ∧ At .i64 w' w'.heap.size (some B) lens ∧ Below w.heap.size w w'
set_option maxRecDepth 100000 in
set_option maxHeartbeats 4000000 in
theorem codes_any (w : World) : Calls Tryd.prog 60 #[] w (CodesPost w) := by
  obtain ⟨i0, hi0, hz0, hz1, hz2⟩ := info_parts infoU32
  go_enter Tryd.func60, Tryd.ntmps60
  go_wp2_with fail
  with_reducible refine (lengths_any w).mono ?_
  rintro e w1 ⟨gl, rfl, hlen, hb1⟩
  go_wp2_with (at_make; refine wpList_make_full _ rfl _ _ 88 rfl w1.heap.size 92 i0 _ 1 Tryd.underlying88 hi0 hz0 hz1 _ _ _ _ 257 rfl rfl (by omega) (by omega) (by rw [hz2]; omega) (by unfold maxLen; omega) (Nat.le_refl _) ?_; intro w2 hown1 hg1)
  have hb2 : Below w1.heap.size w1 w2 := (Below.refl _ _).grown hg1 (Nat.le_refl _) (by simp)
  have hown2 : w2.ownsRow w1.heap.size 92 1 (.slice (some ⟨w1.heap.size, 0, none⟩) 257 257) 257 (cn .u32 (outr 0).2) := by
    have e : cn .u32 (outr 0).2 = (madeCells (Value.int .u32 0).cells (257 * 1)).toList := by
      rw [show (Value.int .u32 0).cells = #[Value.int .u32 0] from rfl, toList_madeCells_one, outr]
      simp [cn]
    rw [e]
    exact hown1
  clear hg1 hown1
  obtain ⟨g, hg⟩ : ∃ g, g = w1.heap.size := ⟨_, rfl⟩
  rw [← hg] at hown2 ⊢
  have HG := Lib.hid hg
  clear hg
  rw [HG.out] at hown2
  have hT0 : TabR w1 g (outr 0).2 w2 := by
    refine ⟨?_, hb2⟩
    rw [HG.out]
    exact hown2
  clear hown2 hb2
  have HLEN := Lib.hid hlen
  clear hlen
  go_loopw [4, 5] (fun c i wr => CdO w1 g c i wr) (fun _ i _ => 31 - (intOf i).toNat)
  case atStart => exact ⟨0, by omega, rfl, rfl, hT0⟩
  case round =>
    clear hT0
    obtain ⟨l, hl, rfl, rfl, hT⟩ := hrel
    by_cases hlt : l < 30
    · obtain ⟨c, hc⟩ : ∃ c, c = (outr l).1 := ⟨_, rfl⟩
      obtain ⟨c2, hc2⟩ : ∃ c2, c2 = c * 2 % 4294967296 := ⟨_, rfl⟩
      rw [← hc]
      have hcl : c < 4294967296 := by rw [hc]; exact outr_lt l
      have r1 : (c : Int) * 2 % 4294967296 = (c2 : Int) := by omega
      have r2 : IntKind.u32.wrap ((c : Int) * 2) = (c2 : Int) := by rw [IntKind.wrap_u32']; omega
      have li : (l : Int) + 1 ≤ 30 := by omega
      have HS : Hid (outr (l + 1) = inn (l + 1) 257 (c2, (outr l).2)) := Lib.hid (by rw [outr_succ, ← hc, ← hc2])
      have hc2l : c2 < 4294967296 := by omega
      have hol := outr_len l
      clear hc hc2
      generalize (outr l).2 = o at hT HS hol
      go_wp2
      go_loopw [4, 6] (fun c i wr => CdI w1 g (l + 1) (c2, o) c i wr) (fun _ i _ => 257 - (intOf i).toNat)
      case atStart => exact ⟨0, by omega, rfl, rfl, hT⟩
      case round =>
        clear hT
        obtain ⟨k, hk, rfl, rfl, hT⟩ := hrel
        have hst : inn (l + 1) (k + 1) (c2, o) = stp (l + 1) k (inn (l + 1) k (c2, o)) := rfl
        have hsl := inn_lt (l + 1) (c2, o) hc2l k
        have hsn := (inn_len (l + 1) (c2, o) k).trans hol
        by_cases hk7 : k < 257
        · generalize hs : inn (l + 1) k (c2, o) = s at hst hsl hsn hT
          obtain ⟨x, hx⟩ : ∃ x, x = lens.getD k 0 := ⟨_, rfl⟩
          obtain ⟨lb, lo, he, hlb, hcl2⟩ := HLEN.out.pos (by rw [lens_len]; omega)
          injection he with he
          injection he with he1 he2
          subst he1 he2
          have hkl : k < lens.length := by rw [lens_len]; exact hk7
          have cx : wr.cell? ⟨gl, k, none⟩ = some (.int .i64 (x : Int)) := by
            rw [hT.2.cell (p := ⟨gl, k, none⟩) hlb]
            have := hcl2 k hkl
            rw [Nat.zero_add] at this
            rw [this, hx]
            simp [List.getD, hkl]
          have HX := Lib.hid hx
          have HST := Lib.hid hst
          have i1 : (k : Int) < 257 := by omega
          clear hx hst hcl2 hs hkl
          by_cases hxl : x = l + 1
          · have q : ((x : Int) == (l : Int) + 1) = true := by simp; omega
            obtain ⟨d, hd⟩ : ∃ d, d = s.1 := ⟨_, rfl⟩
            obtain ⟨d2, hd2⟩ : ∃ d2, d2 = (d + 1) % 4294967296 := ⟨_, rfl⟩
            have HE : Hid (stp (l + 1) k s = (d2, s.2.set k d)) := Lib.hid (by rw [stp, if_pos (by rw [← HX.out]; exact hxl), hd2, hd])
            rw [← hd]
            have r3 : ((d : Int) + 1) % 4294967296 = (d2 : Int) := by omega
            have r4 : IntKind.u32.wrap ((d : Int) + 1) = (d2 : Int) := by rw [IntKind.wrap_u32']; omega
            obtain ⟨z, hz⟩ : ∃ z, wr.cell? ⟨g, k, none⟩ = some z := ⟨_, own_at hT.1 (by rw [hsn]; exact hk7)⟩
            have hf : wr.frozen? ⟨g, k, none⟩ = false := own_free hT.1
            have hstd := (hT.1.stored k (.int .u32 (d : Int))).1
            rw [cn_set] at hstd
            have hgw : w1.heap.size ≤ g := by rw [HG.out]; exact Nat.le_refl _
            have HT2 : Hid (TabR w1 g (s.2.set k d) (wr.setCell ⟨g, k, none⟩ (.int .u32 (d : Int)))) := Lib.hid ⟨hstd, hT.2.setCell hgw _⟩
            clear hd hd2 hstd hT hxl
            go_wp2
            go_roundw
            case rel =>
              refine ⟨k + 1, by omega, by go_num, ?_, ?_⟩
              · rw [HST.out, HE.out]
              · rw [HST.out, HE.out]
                exact HT2.out
            case measure => simp [intOf]; omega
          · have q : ((x : Int) == (l : Int) + 1) = false := by simp; omega
            have HE : Hid (stp (l + 1) k s = s) := Lib.hid (by rw [stp, if_neg (by rw [← HX.out]; exact hxl)])
            have HT2 := Lib.hid hT
            obtain ⟨d, hd⟩ : ∃ d, d = s.1 := ⟨_, rfl⟩
            rw [← hd]
            have HD := Lib.hid hd
            clear hT hd
            go_wp2
            go_roundw
            case rel =>
              refine ⟨k + 1, by omega, by go_num, ?_, ?_⟩
              · rw [HST.out, HE.out, HD.out]
              · rw [HST.out, HE.out]
                exact HT2.out
            case measure => simp [intOf]; omega
        · obtain rfl : k = 257 := by omega
          have HT2 := Lib.hid hT
          rw [← HS.out] at HT2 ⊢
          obtain ⟨d, hd⟩ : ∃ d, d = (outr (l + 1)).1 := ⟨_, rfl⟩
          rw [← hd]
          have HD := Lib.hid hd
          clear hT hd hst hsl hsn
          go_wp2
          go_roundw
          case rel => exact ⟨l + 1, by omega, by go_num, by rw [HD.out], HT2.out⟩
          case measure => simp [intOf]; omega
    · obtain rfl : l = 30 := by omega
      have hT2 := hT
      rw [outr_all] at hT2
      have HO := Lib.hid (At.of_own hT2.1)
      have HL2 := Lib.hid (HLEN.out.up hT2.2)
      have hb3 : Below w.heap.size w wr := hb1.trans (hT2.2.mono hb1.size)
      clear hT hT2
      go_wp2
      go_ret2
      exact ⟨_, _, rfl, HO.out, HL2.out, hb3⟩
end Go.Proofs.YtlnppbnbjeakhaaDoor
/- Small facts on the code's table, in memory and plain. -/
namespace Go.Proofs.YtlnppbnbjeakhaaDoor
open Go.RowKit Hf

theorem ln_le (x : Nat) : ln x ≤ 30 := by
  rcases Nat.lt_or_ge x 257 with h | h
  · exact (tab_lim ⟨x, h⟩).2.2.1
  · rw [ln, List.getD, List.getElem?_eq_none (by rw [lens_len]; exact h)]
    simp
theorem nBits_le : ∀ l, nBits l ≤ 30 * l.length
  | [] => by simp [nBits]
  | x :: r => by have := ln_le x; have := nBits_le r; rw [nBits, List.length_cons]; omega
theorem take_next (l : List Nat) (k : Nat) (h : k < l.length) : l.take (k + 1) = l.take k ++ [l[k]] := List.take_succ_eq_append_getElem h
theorem nBits_next (l : List Nat) (k : Nat) (h : k < l.length) : nBits (l.take (k + 1)) = nBits (l.take k) + ln l[k] := by
  rw [take_next l k h, nBits_app]
  simp [nBits]
theorem eBits_next (l : List Nat) (k : Nat) (h : k < l.length) : eBits (l.take (k + 1)) = eBits (l.take k) ++ bOf l[k] := by
  rw [take_next l k h, eBits_app]
  simp [eBits]
theorem At.ln {w : World} {B : Addr} (h : At .i64 w w.heap.size (some B) lens) (x : Nat) (hx : x < 257) : ∃ b o, B = ⟨b, o, none⟩ ∧ w.cell? ⟨b, o + x, none⟩ = some (.int .i64 ((ln x : Nat) : Int)) := by
  obtain ⟨b, o, e, _, hc⟩ := h.pos (by rw [lens_len]; omega)
  injection e with e
  have hl : x < lens.length := by rw [lens_len]; exact hx
  refine ⟨b, o, e, ?_⟩
  rw [hc x hl, Hf.ln, List.getD, List.getElem?_eq_getElem hl]
  rfl
theorem At.cd {w : World} {B : Addr} (h : At .u32 w w.heap.size (some B) cods) (x : Nat) (hx : x < 257) : ∃ b o, B = ⟨b, o, none⟩ ∧ w.cell? ⟨b, o + x, none⟩ = some (.int .u32 ((cd x : Nat) : Int)) := by
  obtain ⟨b, o, e, _, hc⟩ := h.pos (by rw [cods_len]; omega)
  injection e with e
  have hl : x < cods.length := by rw [cods_len]; exact hx
  refine ⟨b, o, e, ?_⟩
  rw [hc x hl, Hf.cd, List.getD, List.getElem?_eq_getElem hl]
  rfl
theorem u64w (z : Int) (h0 : 0 ≤ z) (h : z < 18446744073709551616) : IntKind.u64.wrap z = z := by rw [IntKind.wrap_u64]; omega
end Go.Proofs.YtlnppbnbjeakhaaDoor
/- Contract of the reference's Decode. -/
namespace Go.Proofs.YtlnppbnbjeakhaaDoor
open Go.RowKit Hf

/-- What Decode hands back: bytes in new memory, and what went wrong. -/
def DecPost (w : World) (s : List Nat × Nat) (e : Ending) (w' : World) : Prop := ∃ A c, e = .returned (.tuple #[.slice A s.1.length c, .int .i64 ((s.2 : Nat) : Int)]) ∧ At .u8 w' w'.heap.size A s.1 ∧ (A = none → c = 0) ∧ Below w.heap.size w w'
def DcO (w : World) (b : List Nat) (most : Int) (v x l i : Value) (wr : World) : Prop :=
  ∃ (k W L : Nat) (o : List Nat), k ≤ 8 * b.length ∧ i = .int .i64 (k : Int) ∧ x = .int .u32 (W : Int) ∧ W < 4294967296 ∧ l = .int .i64 (L : Int) ∧ L ≤ k ∧ o.length ≤ k ∧ run most ((unp b).drop k) W L o = dec b most ∧ Row w.heap.size w o v wr
def toI : Option Nat → Int
  | none => -1
  | some i => i
def DcI (W L : Nat) (f i : Value) : Prop := ∃ k : Nat, k ≤ 257 ∧ i = .int .i64 (k : Int) ∧ f = .int .i64 (toI (fnd W L k))
theorem fnd_low (W L : Nat) (h : L < 5) : ∀ n, n ≤ 257 → fnd W L n = none
  | 0, _ => rfl
  | n + 1, hn => by
    have := (tab_lim ⟨n, by omega⟩).2.1
    simp only at this
    rw [fnd, if_neg (by omega), fnd_low W L h n (by omega)]
set_option maxRecDepth 100000 in
set_option maxHeartbeats 8000000 in
theorem rdec_any (A : Option Addr) (b : List Nat) (n c : Nat) (most : Int) (w : World) (hA : At .u8 w w.heap.size A b) (hb : ∀ x ∈ b, x < 256) (hl : b.length = n) (hn : n ≤ 20000) :
    Calls Tryd.prog 54 #[.slice A n c, .int .i64 most] w (DecPost w (dec b most)) := by
  obtain ⟨i0, hi0, hz0, hz1, hz2⟩ := info_parts infoU8
  have HA := Lib.hid hA
  have HB := Lib.hid hb
  have HL := Lib.hid hl
  clear hA hb hl
  obtain ⟨D, hD⟩ : ∃ D, D = dec b most := ⟨_, rfl⟩
  rw [← hD]
  have HD := Lib.hid hD
  clear hD
  go_enter Tryd.func54, Tryd.ntmps54
  go_wp2_with fail
  with_reducible refine (codes_any w).mono ?_
  rintro e w1 ⟨Ac, Al, rfl, hcod, hlen, hb1⟩
  obtain ⟨bl, ol, hAl, _⟩ := hlen.ln 0 (by omega)
  obtain ⟨bc, oc, hAc, _⟩ := hcod.cd 0 (by omega)
  subst hAl hAc
  have HLEN := Lib.hid hlen
  have HCOD := Lib.hid hcod
  have HA1 := Lib.hid (HA.out.up hb1)
  clear hcod hlen HA
  go_wp2
  go_loopw [8, 9, 10, 11] (fun v x l i wr => DcO w1 b most v x l i wr) (fun _ _ _ i _ => 8 * n - (intOf i).toNat)
  case atStart =>
    exact ⟨0, 0, 0, [], Nat.zero_le _, rfl, rfl, by omega, rfl, by omega, by simp, rfl, (World.ownsRow_nil _ _ _ _ : w1.ownsRow w1.heap.size 5 1 (.slice none 0 0) 0 []), Below.refl _ _⟩
  case round =>
    obtain ⟨k, W, L, o, hk, rfl, rfl, hW, rfl, hLk, hok, hrun, hrow⟩ := hrel
    have hbn := HL.out
    by_cases hlt : k < 8 * n
    · have hku : k < (unp b).length := by rw [unp_len]; omega
      obtain ⟨q, hq⟩ : ∃ q, q = k / 8 := ⟨_, rfl⟩
      obtain ⟨r8, hr8⟩ : ∃ r, r = k % 8 := ⟨_, rfl⟩
      have hqb : q < b.length := by omega
      obtain ⟨ab, ao, rfl, hab, hc⟩ := HA1.out.pos (by omega)
      obtain ⟨y, hy⟩ : ∃ y, y = b[q] := ⟨_, rfl⟩
      have hy256 : y < 256 := by rw [hy]; exact HB.out _ (List.getElem_mem _)
      have cy : wr.cell? ⟨ab, ao + q, none⟩ = some (.int .u8 (y : Int)) := by
        rw [hrow.2.cell (p := ⟨ab, ao + q, none⟩) hab, hy]
        exact hc q hqb
      obtain ⟨s8, hs8⟩ : ∃ s, s = 7 - r8 := ⟨_, rfl⟩
      obtain ⟨z, hz⟩ : ∃ z, z = y / 2 ^ s8 % 2 := ⟨_, rfl⟩
      have HBIT : Hid ((unp b)[k] = z) := Lib.hid (by
        simp only [unp, List.getElem_map, List.getElem_range]
        rw [← hq, ← hr8, ← hs8, List.getD, List.getElem?_eq_getElem hqb, hz, hy]
        rfl)
      have eq8 : (k : Int) / 8 = (q : Int) := by omega
      have er8 : (k : Int) % 8 = (r8 : Int) := by omega
      have es8 : (7 : Int) - (r8 : Int) = (s8 : Int) := by omega
      have su : IntKind.u64.wrap (s8 : Int) = (s8 : Int) := by
        have e : ∀ z : Int, IntKind.u64.wrap z = z % 18446744073709551616 := fun z => by simp [IntKind.wrap, IntKind.bits, IntKind.signed]
        rw [e]
        omega
      have hs7 : s8 ≤ 7 := by omega
      obtain ⟨Y, hY⟩ : ∃ Y, Y = y / 2 ^ s8 := ⟨_, rfl⟩
      have eY : (y : Int) / 2 ^ s8 = (Y : Int) := by rw [hY, show ((2 : Int) ^ s8) = ((2 ^ s8 : Nat) : Int) by simp, ← Int.natCast_ediv]
      have hY256 : Y < 256 := by rw [hY]; exact Nat.lt_of_le_of_lt (Nat.div_le_self _ _) hy256
      have ez : bits BinOp.and IntKind.u8 (Y : Int) 1 = (z : Int) := by
        have := u8_and_nat Y 1 hY256 (by omega)
        rw [Nat.and_one_is_mod, show Y % 2 = z by rw [hz, hY]] at this
        exact this
      have hz1' : z ≤ 1 := by omega
      have ez2 : IntKind.u32.wrap (z : Int) = (z : Int) := by rw [IntKind.wrap_u32']; omega
      obtain ⟨W1, hW1⟩ : ∃ W1, W1 = W * 2 % 4294967296 := ⟨_, rfl⟩
      have eW1 : (W : Int) * 2 % 4294967296 = (W1 : Int) := by omega
      have eW1' : IntKind.u32.wrap ((W : Int) * 2) = (W1 : Int) := by rw [IntKind.wrap_u32']; omega
      obtain ⟨W2, hW2⟩ : ∃ W2, W2 = W1 + z := ⟨_, rfl⟩
      have hW2l : W2 < 4294967296 := by omega
      have eor : bits BinOp.or IntKind.u32 (W1 : Int) (z : Int) = (W2 : Int) := by
        have := u32_or_nat W1 z (by omega) (by omega)
        rw [nat_join 1 W1 z (by omega) (by omega), ← hW2] at this
        exact this
      have HD2 : Hid ((unp b).drop k = z :: (unp b).drop (k + 1)) := Lib.hid (by rw [List.drop_eq_getElem_cons hku, HBIT.out])
      have HW2 : Hid (W * 2 % 4294967296 + z = W2) := Lib.hid (by rw [hW2, hW1])
      have HRUN := Lib.hid hrun
      have HROW := Lib.hid hrow
      have qi : (q : Int) < (n : Int) := by omega
      have ki : (k : Int) < 8 * (n : Int) := by omega
      clear hq hr8 hy hs8 hz hY hW1 hW2 hrun hrow hku hqb hc hbn HBIT
      obtain ⟨L2, hL2⟩ : ∃ L2, L2 = L + 1 := ⟨_, rfl⟩
      have eL2 : (L : Int) + 1 = (L2 : Int) := by omega
      have hL2b : L2 ≤ 160000 := by omega
      have HL2 := Lib.hid hL2
      clear hL2
      by_cases hL5 : L2 < 5
      · have q5 : decide ((5 : Int) ≤ (L2 : Int)) = false := decide_eq_false (by omega)
        go_wp2
        go_loop [12, 13] (fun f i => i = .int .i64 0 ∧ f = .int .i64 (-1)) (fun _ i => 257 - (intOf i).toNat)
        case atStart => exact ⟨rfl, rfl⟩
        case round =>
          obtain ⟨rfl, rfl⟩ := hrel
          go_wp2
          go_roundw
          case rel =>
            refine ⟨k + 1, W2, L2, o, by have := HL.out; omega, by go_num, rfl, hW2l, rfl, by have := HL2.out; omega, by omega, ?_, HROW.out⟩
            rw [← HRUN.out, HD2.out, run_none (by rw [HW2.out, ← HL2.out]; exact fnd_low _ _ hL5 257 (Nat.le_refl _)), HW2.out, ← HL2.out]
          case measure => simp [intOf]; omega
      · have q5 : decide ((5 : Int) ≤ (L2 : Int)) = true := decide_eq_true (by omega)
        have q5' : (5 : Int) ≤ (L2 : Int) := by omega
        have hbw := HROW.out.2
        go_wp2
        go_loop [12, 13] (fun f i => DcI W2 L2 f i) (fun _ i => 257 - (intOf i).toNat)
        case atStart => exact ⟨0, by omega, rfl, rfl⟩
        case round =>
          obtain ⟨t, ht, rfl, rfl⟩ := hrel
          by_cases ht7 : t < 257
          · obtain ⟨bl', ol', e1, cl⟩ := HLEN.out.ln t ht7
            obtain ⟨bc', oc', e2, cc⟩ := HCOD.out.cd t ht7
            injection e1 with e1a e1b
            injection e2 with e2a e2b
            subst e1a e1b e2a e2b
            have cl2 : wr.cell? ⟨bl, ol + t, none⟩ = some (.int .i64 ((ln t : Nat) : Int)) := (hbw.cell (p := ⟨bl, ol + t, none⟩) (World.block_lt_of_cell? w1 _ cl)).trans cl
            have cc2 : wr.cell? ⟨bc, oc + t, none⟩ = some (.int .u32 ((cd t : Nat) : Int)) := (hbw.cell (p := ⟨bc, oc + t, none⟩) (World.block_lt_of_cell? w1 _ cc)).trans cc
            have hF : fnd W2 L2 (t + 1) = if ln t = L2 ∧ cd t = W2 then some t else fnd W2 L2 t := rfl
            generalize ln t = x1 at cl2 hF
            generalize cd t = x2 at cc2 hF
            have HF := Lib.hid hF
            have ti : (t : Int) < 257 := by omega
            clear cl cc hF
            obtain ⟨f0, hf0⟩ : ∃ f, f = toI (fnd W2 L2 t) := ⟨_, rfl⟩
            rw [← hf0]
            have HF0 := Lib.hid hf0
            clear hf0
            by_cases h1 : x1 = L2
            · have p1 : ((x1 : Int) == (L2 : Int)) = true := by simp; omega
              by_cases h2 : x2 = W2
              · have p2 : ((x2 : Int) == (W2 : Int)) = true := by simp; omega
                go_wp2
                go_round
                case rel => exact ⟨t + 1, by omega, by go_num, by rw [HF.out, if_pos ⟨h1, h2⟩]; rfl⟩
                case measure => simp [intOf]; omega
              · have p2 : ((x2 : Int) == (W2 : Int)) = false := by simp; omega
                go_wp2
                go_round
                case rel => exact ⟨t + 1, by omega, by go_num, by rw [HF.out, if_neg (fun h => h2 h.2), HF0.out]⟩
                case measure => simp [intOf]; omega
            · have p1 : ((x1 : Int) == (L2 : Int)) = false := by simp; omega
              go_wp2
              go_round
              case rel => exact ⟨t + 1, by omega, by go_num, by rw [HF.out, if_neg (fun h => h1 h.1), HF0.out]⟩
              case measure => simp [intOf]; omega
          · obtain rfl : t = 257 := by omega
            cases hF : fnd W2 L2 257 with
            | none =>
              rw [show toI none = -1 from rfl]
              have HF := Lib.hid hF
              clear hF
              go_wp2
              go_roundw
              case rel =>
                refine ⟨k + 1, W2, L2, o, by have := HL.out; omega, by go_num, rfl, hW2l, rfl, by have := HL2.out; omega, by omega, ?_, HROW.out⟩
                rw [← HRUN.out, HD2.out, run_none (by rw [HW2.out, ← HL2.out]; exact HF.out), HW2.out, ← HL2.out]
              case measure => simp [intOf]; omega
            | some f =>
              rw [show toI (some f) = (f : Int) from rfl]
              have hf7 := ((fnd_spec _ _ 257).1 f hF).1
              have HF := Lib.hid hF
              clear hF
              by_cases h256 : f = 256
              · have p0 : ((f : Int) == 256) = true := by simp; omega
                have HDD : Hid (D = ([], 2)) := Lib.hid (by rw [HD.out, ← HRUN.out, HD2.out, run_some (by rw [HW2.out, ← HL2.out]; exact HF.out), if_pos h256])
                have hb3 : Below w.heap.size w wr := hb1.trans (hbw.mono hb1.size)
                go_wp2
                go_ret2
                rw [HDD.out]
                exact ⟨none, 0, rfl, at_nil _ _ _ _, fun _ => rfl, hb3⟩
              · have p0 : ((f : Int) == 256) = false := by simp; omega
                have p1 : (0 : Int) ≤ (f : Int) := by omega
                obtain ⟨A8, c8, hv8⟩ := own_shape HROW.out.1
                subst hv8
                by_cases hlong : most ≤ (o.length : Int)
                · have HDD : Hid (D = ([], 3)) := Lib.hid (by rw [HD.out, ← HRUN.out, HD2.out, run_some (by rw [HW2.out, ← HL2.out]; exact HF.out), if_neg h256, if_pos hlong])
                  have hb3 : Below w.heap.size w wr := hb1.trans (hbw.mono hb1.size)
                  go_wp2
                  go_ret2
                  rw [HDD.out]
                  exact ⟨none, 0, rfl, at_nil _ _ _ _, fun _ => rfl, hb3⟩
                · have HRN : Hid (run most ((unp b).drop (k + 1)) 0 0 (o ++ [f]) = dec b most) := Lib.hid (by rw [← HRUN.out, HD2.out, run_some (by rw [HW2.out, ← HL2.out]; exact HF.out), if_neg h256, if_neg hlong])
                  have hlong' : (o.length : Int) < most := by omega
                  have fw : IntKind.u8.wrap (f : Int) = (f : Int) := by rw [IntKind.wrap_u8']; omega
                  have hrow := HROW.out
                  go_wp2_with (at_builtin; refine wpList_append_at rfl (.tmp 75) (.tmp 78) rfl w1.heap.size _ o rfl (hrow.1.alloc _) (some ⟨wr.heap.size, 0, none⟩) [f] _ 1 rfl rfl (fun h => by cases h) _ (At.new wr [f] 5 (0, 0)) ?_ ?_ ?_; (rotate_right; intro v9 w9 hown9 hg9))
                  · have hb9 := (hrow.2.alloc hrow.2.size _).grown hg9 (by have := hrow.2.size; simp; omega) (own_block hrow.1)
                    clear hg9 hrow
                    go_wp2
                    go_roundw
                    case rel =>
                      exact ⟨k + 1, 0, 0, o ++ [f], by have := HL.out; omega, by go_num, rfl, by omega, rfl, by omega, by simp; omega, HRN.out, hown9, hb9⟩
                    case measure => simp [intOf]; omega
                  all_goals first | (simp; omega) | (have := hrow.2.size; simp; omega) | simp
    · have hk8 : k = 8 * n := by omega
      have hnil : (unp b).drop k = [] := List.drop_of_length_le (by rw [unp_len]; omega)
      rw [hnil, run] at hrun
      have HRUN := Lib.hid hrun
      have kd : decide ((k : Int) < 8 * (n : Int)) = false := decide_eq_false (by omega)
      have kn : ¬ (k : Int) < 8 * (n : Int) := by omega
      have hb3 : Below w.heap.size w wr := hb1.trans (hrow.2.mono hb1.size)
      obtain ⟨A8, c8, hv8⟩ := own_shape hrow.1
      subst hv8
      have HROW := Lib.hid hrow
      have hLb : L ≤ 160000 := by omega
      clear hrun hnil hk8 hrow hbn hlt
      by_cases h7 : 7 < L
      · have p7 : decide ((7 : Int) < (L : Int)) = true := decide_eq_true (by omega)
        have HDD : Hid (D = ([], 2)) := Lib.hid (by rw [HD.out, ← HRUN.out, if_pos (Or.inl h7)])
        go_wp2
        go_ret2
        rw [HDD.out]
        exact ⟨none, 0, rfl, at_nil _ _ _ _, fun _ => rfl, hb3⟩
      · have p7 : decide ((7 : Int) < (L : Int)) = false := decide_eq_false (by omega)
        obtain ⟨p, hp⟩ : ∃ p, p = 2 ^ L := ⟨_, rfl⟩
        have hp1 : 1 ≤ p := by rw [hp]; exact Nat.one_le_two_pow
        have hp2 : p ≤ 128 := by rw [hp]; exact Nat.pow_le_pow_right (by decide) (show L ≤ 7 by omega)
        have ep : ((2 : Int) ^ L) = (p : Int) := by rw [hp]; simp
        obtain ⟨M, hM⟩ : ∃ M, M = p - 1 := ⟨_, rfl⟩
        have eM : (p : Int) - 1 = (M : Int) := by omega
        have su : IntKind.u64.wrap (L : Int) = (L : Int) := by
          have e : ∀ z : Int, IntKind.u64.wrap z = z % 18446744073709551616 := fun z => by simp [IntKind.wrap, IntKind.bits, IntKind.signed]
          rw [e]
          omega
        have HM : Hid (2 ^ L - 1 = M) := Lib.hid (by rw [hM, hp])
        have hL7 : L ≤ 7 := by omega
        clear hp hM
        by_cases hWM : W = M
        · have pn : ((W : Int) != (M : Int)) = false := by simp; omega
          have HDD : Hid (D = (o, 0)) := Lib.hid (by rw [HD.out, ← HRUN.out, HM.out, if_neg (by omega)])
          go_wp2
          go_ret2
          rw [HDD.out]
          exact ⟨A8, c8, rfl, At.of_own HROW.out.1, own_none HROW.out.1, hb3⟩
        · have pn : ((W : Int) != (M : Int)) = true := by simp; omega
          have HDD : Hid (D = ([], 2)) := Lib.hid (by rw [HD.out, ← HRUN.out, HM.out, if_pos (Or.inr hWM)])
          go_wp2
          go_ret2
          rw [HDD.out]
          exact ⟨none, 0, rfl, at_nil _ _ _ _, fun _ => rfl, hb3⟩
end Go.Proofs.YtlnppbnbjeakhaaDoor
