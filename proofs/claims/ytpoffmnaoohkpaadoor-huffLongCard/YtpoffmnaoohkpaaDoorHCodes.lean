/- Contracts of the reference's lengths and Codes. -/
import Derived.Test.YtpoffmnaoohkpaaDoorLMem
import Derived.Test.YtpoffmnaoohkpaaDoorHMath
import Derived.Great.BuildSlice
namespace Go.Proofs.YtpoffmnaoohkpaaDoor
open Go.RowKit Hf

def LenPost (w : World) (e : Ending) (w' : World) : Prop := ∃ g, e = .returned (.slice (some ⟨g, 0, none⟩) 257 257) ∧ At .i64 w' w'.heap.size (some ⟨g, 0, none⟩) lens ∧ Below w.heap.size w w'
set_option maxRecDepth 100000 in
set_option maxHeartbeats 4000000 in
theorem lengths_any (w : World) : Calls Tryd.prog 19 #[] w (LenPost w) := by
  go_enter Tryd.func19, Tryd.ntmps19
  go_wp2_with (first | (refine wpList_buildFlat rfl 25 3 257 _ rfl .i64 (lens.map fun (x : Nat) => (x : Int)) (by kernel_rfl) (by kernel_rfl) (by kernel_rfl) (by kernel_rfl) (by decide) (by decide) (by kernel_rfl) ?_))
  go_ret
  exact ⟨w.heap.size, rfl, At.new w lens 3 (0, 0), (Below.refl _ _).alloc (Nat.le_refl _) _⟩
theorem infoU32 : (Tryd.prog.info? 28).map (fun i => (i.zero, i.size, i.bytes)) = some (some (.int .u32 0), 1, 4) := by kernel_rfl
theorem stp_lt (l i : Nat) (s : Nat × List Nat) (h : s.1 < 4294967296) : (stp l i s).1 < 4294967296 := by
  unfold stp
  split
  · exact Nat.mod_lt _ (by omega)
  · exact h
theorem stp_len (l i : Nat) (s : Nat × List Nat) : (stp l i s).2.length = s.2.length := by
  unfold stp
  split
  · simp
  · rfl
theorem inn_lt (l : Nat) (s : Nat × List Nat) (h : s.1 < 4294967296) : ∀ i, (inn l i s).1 < 4294967296
  | 0 => h
  | i + 1 => stp_lt l i _ (inn_lt l s h i)
theorem inn_len (l : Nat) (s : Nat × List Nat) : ∀ i, (inn l i s).2.length = s.2.length
  | 0 => rfl
  | i + 1 => (stp_len l i _).trans (inn_len l s i)
theorem outr_lt : ∀ l, (outr l).1 < 4294967296
  | 0 => by decide
  | l + 1 => by rw [outr_succ]; exact inn_lt _ _ (Nat.mod_lt _ (by omega)) _
theorem outr_len : ∀ l, (outr l).2.length = 257
  | 0 => by decide +kernel
  | l + 1 => by rw [outr_succ, inn_len]; exact outr_len l
/-- The table, a row of the call's own at block g. -/
def TabR (w : World) (g : Nat) (o : List Nat) (wr : World) : Prop := wr.ownsRow w.heap.size 28 1 (.slice (some ⟨g, 0, none⟩) 257 257) 257 (cn .u32 o) ∧ Below w.heap.size w wr
def CdO (w : World) (g : Nat) (c i : Value) (wr : World) : Prop := ∃ l : Nat, l ≤ 30 ∧ i = .int .i64 ((l : Int) + 1) ∧ c = .int .u32 ((outr l).1 : Int) ∧ TabR w g (outr l).2 wr
def CdI (w : World) (g l : Nat) (s : Nat × List Nat) (c i : Value) (wr : World) : Prop := ∃ k : Nat, k ≤ 257 ∧ i = .int .i64 (k : Int) ∧ c = .int .u32 ((inn l k s).1 : Int) ∧ TabR w g (inn l k s).2 wr
def CodesPost (w : World) (e : Ending) (w' : World) : Prop := ∃ A B, e = .returned (.tuple #[.slice (some A) 257 257, .slice (some B) 257 257]) ∧ At .u32 w' w'.heap.size (some A) cods ∧ At .i64 w' w'.heap.size (some B) lens ∧ Below w.heap.size w w'
set_option maxRecDepth 100000 in
set_option maxHeartbeats 4000000 in
theorem codes_any (w : World) : Calls Tryd.prog 9 #[] w (CodesPost w) := by
  obtain ⟨i0, hi0, hz0, hz1, hz2⟩ := info_parts infoU32
  go_enter Tryd.func9, Tryd.ntmps9
  go_wp2_with fail
  with_reducible refine (lengths_any w).mono ?_
  rintro e w1 ⟨gl, rfl, hlen, hb1⟩
  go_wp2_with (at_make; refine wpList_make_full _ rfl _ _ 24 rfl w1.heap.size 28 i0 _ 1 Tryd.underlying24 hi0 hz0 hz1 _ _ _ _ 257 rfl rfl (by omega) (by omega) (by rw [hz2]; omega) (by unfold maxLen; omega) (Nat.le_refl _) ?_; intro w2 hown1 hg1)
  have hb2 : Below w1.heap.size w1 w2 := (Below.refl _ _).grown hg1 (Nat.le_refl _) (by simp)
  have hown2 : w2.ownsRow w1.heap.size 28 1 (.slice (some ⟨w1.heap.size, 0, none⟩) 257 257) 257 (cn .u32 (outr 0).2) := by
    have e : cn .u32 (outr 0).2 = (madeCells (Value.int .u32 0).cells (257 * 1)).toList := by
      rw [show (Value.int .u32 0).cells = #[Value.int .u32 0] from rfl, toList_madeCells_one, outr]
      simp [cn]
    rw [e]
    exact hown1
  clear hg1 hown1
  obtain ⟨g, hg⟩ : ∃ g, g = w1.heap.size := ⟨_, rfl⟩
  rw [← hg] at hown2 ⊢
  have HG := Lib.hid hg
  clear hg
  rw [HG.out] at hown2
  have hT0 : TabR w1 g (outr 0).2 w2 := by
    refine ⟨?_, hb2⟩
    rw [HG.out]
    exact hown2
  clear hown2 hb2
  have HLEN := Lib.hid hlen
  clear hlen
  go_loopw [4, 5] (fun c i wr => CdO w1 g c i wr) (fun _ i _ => 31 - (intOf i).toNat)
  case atStart => exact ⟨0, by omega, rfl, rfl, hT0⟩
  case round =>
    clear hT0
    obtain ⟨l, hl, rfl, rfl, hT⟩ := hrel
    by_cases hlt : l < 30
    · obtain ⟨c, hc⟩ : ∃ c, c = (outr l).1 := ⟨_, rfl⟩
      obtain ⟨c2, hc2⟩ : ∃ c2, c2 = c * 2 % 4294967296 := ⟨_, rfl⟩
      rw [← hc]
      have hcl : c < 4294967296 := by rw [hc]; exact outr_lt l
      have r1 : (c : Int) * 2 % 4294967296 = (c2 : Int) := by omega
      have r2 : IntKind.u32.wrap ((c : Int) * 2) = (c2 : Int) := by rw [IntKind.wrap_u32']; omega
      have li : (l : Int) + 1 ≤ 30 := by omega
      have HS : Hid (outr (l + 1) = inn (l + 1) 257 (c2, (outr l).2)) := Lib.hid (by rw [outr_succ, ← hc, ← hc2])
      have hc2l : c2 < 4294967296 := by omega
      have hol := outr_len l
      clear hc hc2
      generalize (outr l).2 = o at hT HS hol
      go_wp2
      go_loopw [4, 6] (fun c i wr => CdI w1 g (l + 1) (c2, o) c i wr) (fun _ i _ => 257 - (intOf i).toNat)
      case atStart => exact ⟨0, by omega, rfl, rfl, hT⟩
      case round =>
        clear hT
        obtain ⟨k, hk, rfl, rfl, hT⟩ := hrel
        have hst : inn (l + 1) (k + 1) (c2, o) = stp (l + 1) k (inn (l + 1) k (c2, o)) := rfl
        have hsl := inn_lt (l + 1) (c2, o) hc2l k
        have hsn := (inn_len (l + 1) (c2, o) k).trans hol
        by_cases hk7 : k < 257
        · generalize hs : inn (l + 1) k (c2, o) = s at hst hsl hsn hT
          obtain ⟨x, hx⟩ : ∃ x, x = lens.getD k 0 := ⟨_, rfl⟩
          obtain ⟨lb, lo, he, hlb, hcl2⟩ := HLEN.out.pos (by rw [lens_len]; omega)
          injection he with he
          injection he with he1 he2
          subst he1 he2
          have hkl : k < lens.length := by rw [lens_len]; exact hk7
          have cx : wr.cell? ⟨gl, k, none⟩ = some (.int .i64 (x : Int)) := by
            rw [hT.2.cell (p := ⟨gl, k, none⟩) hlb]
            have := hcl2 k hkl
            rw [Nat.zero_add] at this
            rw [this, hx]
            simp [List.getD, hkl]
          have HX := Lib.hid hx
          have HST := Lib.hid hst
          have i1 : (k : Int) < 257 := by omega
          clear hx hst hcl2 hs hkl
          by_cases hxl : x = l + 1
          · have q : ((x : Int) == (l : Int) + 1) = true := by simp; omega
            obtain ⟨d, hd⟩ : ∃ d, d = s.1 := ⟨_, rfl⟩
            obtain ⟨d2, hd2⟩ : ∃ d2, d2 = (d + 1) % 4294967296 := ⟨_, rfl⟩
            have HE : Hid (stp (l + 1) k s = (d2, s.2.set k d)) := Lib.hid (by rw [stp, if_pos (by rw [← HX.out]; exact hxl), hd2, hd])
            rw [← hd]
            have r3 : ((d : Int) + 1) % 4294967296 = (d2 : Int) := by omega
            have r4 : IntKind.u32.wrap ((d : Int) + 1) = (d2 : Int) := by rw [IntKind.wrap_u32']; omega
            obtain ⟨z, hz⟩ : ∃ z, wr.cell? ⟨g, k, none⟩ = some z := ⟨_, own_at hT.1 (by rw [hsn]; exact hk7)⟩
            have hf : wr.frozen? ⟨g, k, none⟩ = false := own_free hT.1
            have hstd := (hT.1.stored k (.int .u32 (d : Int))).1
            rw [cn_set] at hstd
            have hgw : w1.heap.size ≤ g := by rw [HG.out]; exact Nat.le_refl _
            have HT2 : Hid (TabR w1 g (s.2.set k d) (wr.setCell ⟨g, k, none⟩ (.int .u32 (d : Int)))) := Lib.hid ⟨hstd, hT.2.setCell hgw _⟩
            clear hd hd2 hstd hT hxl
            go_wp2
            go_roundw
            case rel =>
              refine ⟨k + 1, by omega, by go_num, ?_, ?_⟩
              · rw [HST.out, HE.out]
              · rw [HST.out, HE.out]
                exact HT2.out
            case measure => simp [intOf]; omega
          · have q : ((x : Int) == (l : Int) + 1) = false := by simp; omega
            have HE : Hid (stp (l + 1) k s = s) := Lib.hid (by rw [stp, if_neg (by rw [← HX.out]; exact hxl)])
            have HT2 := Lib.hid hT
            obtain ⟨d, hd⟩ : ∃ d, d = s.1 := ⟨_, rfl⟩
            rw [← hd]
            have HD := Lib.hid hd
            clear hT hd
            go_wp2
            go_roundw
            case rel =>
              refine ⟨k + 1, by omega, by go_num, ?_, ?_⟩
              · rw [HST.out, HE.out, HD.out]
              · rw [HST.out, HE.out]
                exact HT2.out
            case measure => simp [intOf]; omega
        · obtain rfl : k = 257 := by omega
          have HT2 := Lib.hid hT
          rw [← HS.out] at HT2 ⊢
          obtain ⟨d, hd⟩ : ∃ d, d = (outr (l + 1)).1 := ⟨_, rfl⟩
          rw [← hd]
          have HD := Lib.hid hd
          clear hT hd hst hsl hsn
          go_wp2
          go_roundw
          case rel => exact ⟨l + 1, by omega, by go_num, by rw [HD.out], HT2.out⟩
          case measure => simp [intOf]; omega
    · obtain rfl : l = 30 := by omega
      have hT2 := hT
      rw [outr_all] at hT2
      have HO := Lib.hid (At.of_own hT2.1)
      have HL2 := Lib.hid (HLEN.out.up hT2.2)
      have hb3 : Below w.heap.size w wr := hb1.trans (hT2.2.mono hb1.size)
      clear hT hT2
      go_wp2
      go_ret2
      exact ⟨_, _, rfl, HO.out, HL2.out, hb3⟩
end Go.Proofs.YtpoffmnaoohkpaaDoor
