/- Chapter 9 over plain values: how long what is written is; one field more. -/
import Derived.Test.YtiandidencnlcaaDoorQEnc
import Derived.Test.YtiandidencnlcaaDoorLPost
import Derived.Test.YtiandidencnlcaaDoorLMem
import Derived.Test.YtiandidencnlcaaDoorHBits
import Derived.Great.BuildSlice
import Derived.Test.YtiandidencnlcaaDoorHRead
import Derived.Deep.DeepCutAuto
namespace Go.Proofs.YtiandidencnlcaaDoor
open Go.RowKit

theorem pstr_len (s : List Nat) (h : s.length ≤ 16384) : (pstr s).length ≤ s.length + 6 := by
  unfold pstr
  split
  · rename_i hh
    have h1 := Pn.put_six 128 7 ((Hf.nBits s + 7) / 8) (by omega)
    have h3 := Hf.enc_len s
    rw [List.length_append]
    omega
  · have h2 := Pn.put_six 0 7 s.length (by omega)
    rw [List.length_append]
    omega
theorem pfld_len (m : Nat) (L : List Fld) (f : Fld) (hf : f.fits) (hn : L.length ≤ 1000) : (pfld m L f).1.length ≤ fsize f := by
  have hbo := both_le L f.name f.value hn
  have hna := name_le L f.name f.value hn
  obtain ⟨h1, h2⟩ := hf
  unfold pfld
  split
  · have := Pn.put_six 128 7 (pboth L f.name f.value) (by omega)
    show (Pn.put 128 7 _).length ≤ _
    unfold fsize
    omega
  · show (plit L f).length ≤ _
    have a1 := Pn.put_six (if f.never then 16 else 64) (if f.never then 4 else 6) (pname L f.name f.value) (by omega)
    have a2 := pstr_len (nums f.name) (by rw [nums_len]; exact h1)
    have a3 := pstr_len (nums f.value) (by rw [nums_len]; exact h2)
    rw [nums_len] at a2 a3
    have a4 : (if pname L f.name f.value = 0 then pstr (nums f.name) else []).length ≤ f.name.size + 6 := by
      split
      · exact a2
      · simp
    unfold plit fsize
    rw [List.length_append, List.length_append]
    omega
theorem pall_snoc (m : Nat) : ∀ (a : List Fld) (L : List Fld) (f : Fld), pall m L (a ++ [f]) = ((pall m L a).1 ++ (pfld m (pall m L a).2 f).1, (pfld m (pall m L a).2 f).2)
  | [], L, f => by simp [pall]
  | g :: r, L, f => by
    rw [List.cons_append, pall, pall_snoc m r, pall]
    simp only [List.append_assoc]
theorem pall_next (m : Nat) (L l : List Fld) (k : Nat) (hk : k < l.length) : pall m L (l.take (k + 1)) = ((pall m L (l.take k)).1 ++ (pfld m (pall m L (l.take k)).2 l[k]).1, (pfld m (pall m L (l.take k)).2 l[k]).2) := by
  rw [List.take_succ_eq_append_getElem hk, pall_snoc]
theorem pall_len (m : Nat) : ∀ (l L : List Fld), tot L ≤ m → m ≤ 4096 → (∀ f ∈ l, f.fits) → (pall m L l).1.length ≤ tot l
  | [], _, _, _, _ => by simp [pall, tot]
  | f :: r, L, ht, hm, hf => by
    have h1 := pfld_len m L f (hf f (by simp)) (by have := tot_pos L; omega)
    have h2 := pall_len m r (pfld m L f).2 (fld_tot ht) hm (fun x hx => hf x (by simp [hx]))
    rw [pall, tot]
    simp only [List.length_append]
    omega
theorem lims_len (s : EncS) (h1 : s.least ≤ 4096) (h2 : s.most ≤ 4096) : s.lims.length ≤ 12 := by
  have a1 := Pn.put_six 32 5 s.least (by omega)
  have a2 := Pn.put_six 32 5 s.most (by omega)
  unfold EncS.lims
  split
  · split
    · rw [List.length_append]; omega
    · split
      · omega
      · simp
  · simp
end Go.Proofs.YtiandidencnlcaaDoor
/- The landed encoder's small functions: number, either. -/
namespace Go.Proofs.YtiandidencnlcaaDoor
open Go.RowKit

set_option maxRecDepth 100000 in
/-- number: a row of its own. -/
theorem qnum_f (h B m : Nat) (w : World) (hh : h < 256) (hB1 : 1 ≤ B) (hB8 : B ≤ 8) (hm : m ≤ 2147483647) : Calls Tryd.prog 50 #[.int .u8 (h : Int), .int .i64 (B : Int), .int .i64 (m : Int)] w (RowPost w.heap.size w (Pn.put h B m)) := by
  have HP := Lib.hid (put_own h B m w hh hB1 hB8 hm)
  clear hh hB1 hB8 hm
  go_enter Tryd.func50, Tryd.ntmps50
  go_wp2_with fail
  with_reducible refine (HP.out).mono ?_
  rintro e w1 ⟨v, rfl, hr⟩
  obtain ⟨A, c, rfl⟩ := own_shape hr.1
  have HR := Lib.hid hr
  clear hr HP
  go_wp2
  go_ret
  exact ⟨_, rfl, HR.out⟩
/-- An index of the static table, or else one of the encoder's own. -/
def eith (a b : Nat) : Nat := if 0 < a then a else if 0 < b then 61 + b else 0
set_option maxRecDepth 100000 in
theorem qeither_f (a b : Nat) (w : World) (hb : b ≤ 1000) : Calls Tryd.prog 67 #[.int .i64 (a : Int), .int .i64 (b : Int)] w fun e w' => e = .returned (.int .i64 (eith a b : Int)) ∧ w' = w := by
  by_cases h1 : 0 < a
  · have h2 : (0 : Int) < (a : Int) := by omega
    have HE : Hid (eith a b = a) := Lib.hid (by rw [eith, if_pos h1])
    clear h1
    go_enter Tryd.func67, Tryd.ntmps67
    go_wp2
    go_ret
    rw [HE.out]
    exact ⟨rfl, rfl⟩
  · obtain rfl : a = 0 := by omega
    rw [show ((0 : Nat) : Int) = 0 from rfl]
    by_cases h3 : b = 0
    · subst h3
      rw [show ((0 : Nat) : Int) = 0 from rfl]
      have HE : Hid (eith 0 0 = 0) := Lib.hid rfl
      clear h1
      go_enter Tryd.func67, Tryd.ntmps67
      go_wp2
      go_ret
      rw [HE.out]
      exact ⟨rfl, rfl⟩
    · have h4 : ((b : Int) == 0) = false := by simp; omega
      obtain ⟨k, hk⟩ : ∃ k, k = 61 + b := ⟨_, rfl⟩
      have hk2 : (61 : Int) + (b : Int) = (k : Int) := by omega
      have HE : Hid (eith 0 b = k) := Lib.hid (by rw [eith, if_neg h1, if_pos (by omega), hk])
      have hk9 : k ≤ 1061 := by omega
      clear h1 h3 hk
      go_enter Tryd.func67, Tryd.ntmps67
      go_wp2
      go_ret
      rw [HE.out]
      exact ⟨rfl, rfl⟩
theorem pboth_eith (L : List Fld) (n v : ByteArray) : pboth L n v = eith (St.fnd n.toList v.toList 61 0).1 (fndL n.toList v.toList L 0).1 := rfl
theorem pname_eith (L : List Fld) (n v : ByteArray) : pname L n v = eith (St.fnd n.toList v.toList 61 0).2 (fndL n.toList v.toList L 0).2 := rfl
end Go.Proofs.YtiandidencnlcaaDoor
/- Contracts of the reference's lengths and Codes. -/
namespace Go.Proofs.YtiandidencnlcaaDoor
open Go.RowKit Hf

def LenPost (w : World) (e : Ending) (w' : World) : Prop := ∃ g, e = .returned (.slice (some ⟨g, 0, none⟩) 257 257) ∧ At .i64 w' w'.heap.size (some ⟨g, 0, none⟩) lens ∧ Below w.heap.size w w'
set_option maxRecDepth 100000 in
set_option maxHeartbeats 4000000 in
theorem lengths_any (w : World) : Calls Tryd.prog 83 #[] w (LenPost w) := by
  go_enter Tryd.func83, Tryd.ntmps83
  go_wp2_with (first | (refine wpList_buildFlat rfl 29 3 257 _ rfl .i64 (lens.map fun (x : Nat) => (x : Int)) (by kernel_rfl) (by kernel_rfl) (by kernel_rfl) (by kernel_rfl) (by decide) (by decide) (by kernel_rfl) ?_))
  go_ret
  exact ⟨w.heap.size, rfl, At.new w lens 3 (0, 0), (Below.refl _ _).alloc (Nat.le_refl _) _⟩
theorem infoU32 : (Tryd.prog.info? 111).map (fun i => (i.zero, i.size, i.bytes)) = some (some (.int .u32 0), 1, 4) := by kernel_rfl
theorem stp_lt (l i : Nat) (s : Nat × List Nat) (h : s.1 < 4294967296) : (stp l i s).1 < 4294967296 := by
  unfold stp
  split
  · exact Nat.mod_lt _ (by omega)
  · exact h
theorem stp_len (l i : Nat) (s : Nat × List Nat) : (stp l i s).2.length = s.2.length := by
  unfold stp
  split
  · simp
  · rfl
theorem inn_lt (l : Nat) (s : Nat × List Nat) (h : s.1 < 4294967296) : ∀ i, (inn l i s).1 < 4294967296
  | 0 => h
  | i + 1 => stp_lt l i _ (inn_lt l s h i)
theorem inn_len (l : Nat) (s : Nat × List Nat) : ∀ i, (inn l i s).2.length = s.2.length
  | 0 => rfl
  | i + 1 => (stp_len l i _).trans (inn_len l s i)
theorem outr_lt : ∀ l, (outr l).1 < 4294967296
  | 0 => by decide
  | l + 1 => by rw [outr_succ]; exact inn_lt _ _ (Nat.mod_lt _ (by omega)) _
theorem outr_len : ∀ l, (outr l).2.length = 257
  | 0 => by decide +kernel
  | l + 1 => by rw [outr_succ, inn_len]; exact outr_len l
/-- The table, a row of the call's own at block g. -/
def TabR (w : World) (g : Nat) (o : List Nat) (wr : World) : Prop := wr.ownsRow w.heap.size 111 1 (.slice (some ⟨g, 0, none⟩) 257 257) 257 (cn .u32 o) ∧ Below w.heap.size w wr
def CdO (w : World) (g : Nat) (c i : Value) (wr : World) : Prop := ∃ l : Nat, l ≤ 30 ∧ i = .int .i64 ((l : Int) + 1) ∧ c = .int .u32 ((outr l).1 : Int) ∧ TabR w g (outr l).2 wr
def CdI (w : World) (g l : Nat) (s : Nat × List Nat) (c i : Value) (wr : World) : Prop := ∃ k : Nat, k ≤ 257 ∧ i = .int .i64 (k : Int) ∧ c = .int .u32 ((inn l k s).1 : Int) ∧ TabR w g (inn l k s).2 wr
def CodesPost (w : World) (e : Ending) (w' : World) : Prop := ∃ A B, e = .returned (.tuple #[.slice (some A) 257 257, .slice (some B) 257 257]) ∧ At .u32 w' w'.heap.size (some A) cods ∧ At .i64 w' w'.heap.size (some B) lens ∧ Below w.heap.size w w'
set_option maxRecDepth 100000 in
set_option maxHeartbeats 4000000 in
theorem codes_any (w : World) : Calls Tryd.prog 80 #[] w (CodesPost w) := by
  obtain ⟨i0, hi0, hz0, hz1, hz2⟩ := info_parts infoU32
  go_enter Tryd.func80, Tryd.ntmps80
  go_wp2_with fail
  with_reducible refine (lengths_any w).mono ?_
  rintro e w1 ⟨gl, rfl, hlen, hb1⟩
  go_wp2_with (at_make; refine wpList_make_full _ rfl _ _ 108 rfl w1.heap.size 111 i0 _ 1 Tryd.underlying108 hi0 hz0 hz1 _ _ _ _ 257 rfl rfl (by omega) (by omega) (by rw [hz2]; omega) (by unfold maxLen; omega) (Nat.le_refl _) ?_; intro w2 hown1 hg1)
  have hb2 : Below w1.heap.size w1 w2 := (Below.refl _ _).grown hg1 (Nat.le_refl _) (by simp)
  have hown2 : w2.ownsRow w1.heap.size 111 1 (.slice (some ⟨w1.heap.size, 0, none⟩) 257 257) 257 (cn .u32 (outr 0).2) := by
    have e : cn .u32 (outr 0).2 = (madeCells (Value.int .u32 0).cells (257 * 1)).toList := by
      rw [show (Value.int .u32 0).cells = #[Value.int .u32 0] from rfl, toList_madeCells_one, outr]
      simp [cn]
    rw [e]
    exact hown1
  clear hg1 hown1
  obtain ⟨g, hg⟩ : ∃ g, g = w1.heap.size := ⟨_, rfl⟩
  rw [← hg] at hown2 ⊢
  have HG := Lib.hid hg
  clear hg
  rw [HG.out] at hown2
  have hT0 : TabR w1 g (outr 0).2 w2 := by
    refine ⟨?_, hb2⟩
    rw [HG.out]
    exact hown2
  clear hown2 hb2
  have HLEN := Lib.hid hlen
  clear hlen
  go_loopw [4, 5] (fun c i wr => CdO w1 g c i wr) (fun _ i _ => 31 - (intOf i).toNat)
  case atStart => exact ⟨0, by omega, rfl, rfl, hT0⟩
  case round =>
    clear hT0
    obtain ⟨l, hl, rfl, rfl, hT⟩ := hrel
    by_cases hlt : l < 30
    · obtain ⟨c, hc⟩ : ∃ c, c = (outr l).1 := ⟨_, rfl⟩
      obtain ⟨c2, hc2⟩ : ∃ c2, c2 = c * 2 % 4294967296 := ⟨_, rfl⟩
      rw [← hc]
      have hcl : c < 4294967296 := by rw [hc]; exact outr_lt l
      have r1 : (c : Int) * 2 % 4294967296 = (c2 : Int) := by omega
      have r2 : IntKind.u32.wrap ((c : Int) * 2) = (c2 : Int) := by rw [IntKind.wrap_u32']; omega
      have li : (l : Int) + 1 ≤ 30 := by omega
      have HS : Hid (outr (l + 1) = inn (l + 1) 257 (c2, (outr l).2)) := Lib.hid (by rw [outr_succ, ← hc, ← hc2])
      have hc2l : c2 < 4294967296 := by omega
      have hol := outr_len l
      clear hc hc2
      generalize (outr l).2 = o at hT HS hol
      go_wp2
      go_loopw [4, 6] (fun c i wr => CdI w1 g (l + 1) (c2, o) c i wr) (fun _ i _ => 257 - (intOf i).toNat)
      case atStart => exact ⟨0, by omega, rfl, rfl, hT⟩
      case round =>
        clear hT
        obtain ⟨k, hk, rfl, rfl, hT⟩ := hrel
        have hst : inn (l + 1) (k + 1) (c2, o) = stp (l + 1) k (inn (l + 1) k (c2, o)) := rfl
        have hsl := inn_lt (l + 1) (c2, o) hc2l k
        have hsn := (inn_len (l + 1) (c2, o) k).trans hol
        by_cases hk7 : k < 257
        · generalize hs : inn (l + 1) k (c2, o) = s at hst hsl hsn hT
          obtain ⟨x, hx⟩ : ∃ x, x = lens.getD k 0 := ⟨_, rfl⟩
          obtain ⟨lb, lo, he, hlb, hcl2⟩ := HLEN.out.pos (by rw [lens_len]; omega)
          injection he with he
          injection he with he1 he2
          subst he1 he2
          have hkl : k < lens.length := by rw [lens_len]; exact hk7
          have cx : wr.cell? ⟨gl, k, none⟩ = some (.int .i64 (x : Int)) := by
            rw [hT.2.cell (p := ⟨gl, k, none⟩) hlb]
            have := hcl2 k hkl
            rw [Nat.zero_add] at this
            rw [this, hx]
            simp [List.getD, hkl]
          have HX := Lib.hid hx
          have HST := Lib.hid hst
          have i1 : (k : Int) < 257 := by omega
          clear hx hst hcl2 hs hkl
          by_cases hxl : x = l + 1
          · have q : ((x : Int) == (l : Int) + 1) = true := by simp; omega
            obtain ⟨d, hd⟩ : ∃ d, d = s.1 := ⟨_, rfl⟩
            obtain ⟨d2, hd2⟩ : ∃ d2, d2 = (d + 1) % 4294967296 := ⟨_, rfl⟩
            have HE : Hid (stp (l + 1) k s = (d2, s.2.set k d)) := Lib.hid (by rw [stp, if_pos (by rw [← HX.out]; exact hxl), hd2, hd])
            rw [← hd]
            have r3 : ((d : Int) + 1) % 4294967296 = (d2 : Int) := by omega
            have r4 : IntKind.u32.wrap ((d : Int) + 1) = (d2 : Int) := by rw [IntKind.wrap_u32']; omega
            obtain ⟨z, hz⟩ : ∃ z, wr.cell? ⟨g, k, none⟩ = some z := ⟨_, own_at hT.1 (by rw [hsn]; exact hk7)⟩
            have hf : wr.frozen? ⟨g, k, none⟩ = false := own_free hT.1
            have hstd := (hT.1.stored k (.int .u32 (d : Int))).1
            rw [cn_set] at hstd
            have hgw : w1.heap.size ≤ g := by rw [HG.out]; exact Nat.le_refl _
            have HT2 : Hid (TabR w1 g (s.2.set k d) (wr.setCell ⟨g, k, none⟩ (.int .u32 (d : Int)))) := Lib.hid ⟨hstd, hT.2.setCell hgw _⟩
            clear hd hd2 hstd hT hxl
            go_wp2
            go_roundw
            case rel =>
              refine ⟨k + 1, by omega, by go_num, ?_, ?_⟩
              · rw [HST.out, HE.out]
              · rw [HST.out, HE.out]
                exact HT2.out
            case measure => simp [intOf]; omega
          · have q : ((x : Int) == (l : Int) + 1) = false := by simp; omega
            have HE : Hid (stp (l + 1) k s = s) := Lib.hid (by rw [stp, if_neg (by rw [← HX.out]; exact hxl)])
            have HT2 := Lib.hid hT
            obtain ⟨d, hd⟩ : ∃ d, d = s.1 := ⟨_, rfl⟩
            rw [← hd]
            have HD := Lib.hid hd
            clear hT hd
            go_wp2
            go_roundw
            case rel =>
              refine ⟨k + 1, by omega, by go_num, ?_, ?_⟩
              · rw [HST.out, HE.out, HD.out]
              · rw [HST.out, HE.out]
                exact HT2.out
            case measure => simp [intOf]; omega
        · obtain rfl : k = 257 := by omega
          have HT2 := Lib.hid hT
          rw [← HS.out] at HT2 ⊢
          obtain ⟨d, hd⟩ : ∃ d, d = (outr (l + 1)).1 := ⟨_, rfl⟩
          rw [← hd]
          have HD := Lib.hid hd
          clear hT hd hst hsl hsn
          go_wp2
          go_roundw
          case rel => exact ⟨l + 1, by omega, by go_num, by rw [HD.out], HT2.out⟩
          case measure => simp [intOf]; omega
    · obtain rfl : l = 30 := by omega
      have hT2 := hT
      rw [outr_all] at hT2
      have HO := Lib.hid (At.of_own hT2.1)
      have HL2 := Lib.hid (HLEN.out.up hT2.2)
      have hb3 : Below w.heap.size w wr := hb1.trans (hT2.2.mono hb1.size)
      clear hT hT2
      go_wp2
      go_ret2
      exact ⟨_, _, rfl, HO.out, HL2.out, hb3⟩
end Go.Proofs.YtiandidencnlcaaDoor
/- Small facts on the code's table, in memory and plain. -/
namespace Go.Proofs.YtiandidencnlcaaDoor
open Go.RowKit Hf

theorem ln_le (x : Nat) : ln x ≤ 30 := by
  rcases Nat.lt_or_ge x 257 with h | h
  · exact (tab_lim ⟨x, h⟩).2.2.1
  · rw [ln, List.getD, List.getElem?_eq_none (by rw [lens_len]; exact h)]
    simp
theorem nBits_le : ∀ l, nBits l ≤ 30 * l.length
  | [] => by simp [nBits]
  | x :: r => by have := ln_le x; have := nBits_le r; rw [nBits, List.length_cons]; omega
theorem take_next (l : List Nat) (k : Nat) (h : k < l.length) : l.take (k + 1) = l.take k ++ [l[k]] := List.take_succ_eq_append_getElem h
theorem nBits_next (l : List Nat) (k : Nat) (h : k < l.length) : nBits (l.take (k + 1)) = nBits (l.take k) + ln l[k] := by
  rw [take_next l k h, nBits_app]
  simp [nBits]
theorem eBits_next (l : List Nat) (k : Nat) (h : k < l.length) : eBits (l.take (k + 1)) = eBits (l.take k) ++ bOf l[k] := by
  rw [take_next l k h, eBits_app]
  simp [eBits]
theorem At.ln {w : World} {B : Addr} (h : At .i64 w w.heap.size (some B) lens) (x : Nat) (hx : x < 257) : ∃ b o, B = ⟨b, o, none⟩ ∧ w.cell? ⟨b, o + x, none⟩ = some (.int .i64 ((ln x : Nat) : Int)) := by
  obtain ⟨b, o, e, _, hc⟩ := h.pos (by rw [lens_len]; omega)
  injection e with e
  have hl : x < lens.length := by rw [lens_len]; exact hx
  refine ⟨b, o, e, ?_⟩
  rw [hc x hl, Hf.ln, List.getD, List.getElem?_eq_getElem hl]
  rfl
theorem At.cd {w : World} {B : Addr} (h : At .u32 w w.heap.size (some B) cods) (x : Nat) (hx : x < 257) : ∃ b o, B = ⟨b, o, none⟩ ∧ w.cell? ⟨b, o + x, none⟩ = some (.int .u32 ((cd x : Nat) : Int)) := by
  obtain ⟨b, o, e, _, hc⟩ := h.pos (by rw [cods_len]; omega)
  injection e with e
  have hl : x < cods.length := by rw [cods_len]; exact hx
  refine ⟨b, o, e, ?_⟩
  rw [hc x hl, Hf.cd, List.getD, List.getElem?_eq_getElem hl]
  rfl
theorem u64w (z : Int) (h0 : 0 ≤ z) (h : z < 18446744073709551616) : IntKind.u64.wrap z = z := by rw [IntKind.wrap_u64]; omega
end Go.Proofs.YtiandidencnlcaaDoor
