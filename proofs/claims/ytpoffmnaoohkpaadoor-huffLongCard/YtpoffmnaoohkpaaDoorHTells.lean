/- The walk of HuffTells. -/
import Derived.Test.YtpoffmnaoohkpaaDoorHFirst
namespace Go.Proofs.YtpoffmnaoohkpaaDoor
open Go.RowKit Hf

theorem run_out (most : Int) : ∀ (B : List Nat) (w l : Nat) (out : List Nat), (∀ x ∈ out, x < 256) → ∀ x ∈ (run most B w l out).1, x < 256
  | [], w, l, out, h => by
    rw [run]
    split
    · intro x hx; simp at hx
    · exact h
  | b :: r, w, l, out, h => by
    cases hf : fnd (w * 2 % 4294967296 + b) (l + 1) 257 with
    | none => rw [run_none hf]; exact run_out most r _ _ out h
    | some i =>
      rw [run_some hf]
      split
      · intro x hx; simp at hx
      · rename_i hi
        split
        · intro x hx; simp at hx
        · refine run_out most r 0 0 (out ++ [i]) (fun x hx => ?_)
          rw [List.mem_append, List.mem_singleton] at hx
          rcases hx with h1 | h1
          · exact h x h1
          · have := ((fnd_spec _ _ 257).1 i hf).1
            omega
theorem dec_byte (b : List Nat) (most : Int) : ∀ x ∈ (dec b most).1, x < 256 := run_out most _ 0 0 [] (fun x hx => by simp at hx)
theorem enc_byte (b : List Nat) : ∀ x ∈ enc b, x < 256 := pack_byte (eBits_bt b)
namespace huffTells
def TlR (w : World) (i : Value) (wr : World) : Prop := ∃ k : Nat, k ≤ 256 ∧ i = .int .i64 (k : Int) ∧ Below w.heap.size w wr
theorem walk_long (A : Option Addr) (n c : Nat) (most : Int) (w : World) (hR : Rdy w) (hl : 1000 < n) : Calls Tryd.prog 3 #[.slice A n c, .int .i64 most] w (Yes w) := by
  have HR := Lib.hid hR
  clear hR
  have q1 : decide ((1000 : Int) < (n : Int)) = true := by simp; omega
  go_enter Tryd.func3, Tryd.ntmps3
  go_wp2_with fail
  with_reducible refine (first_any w HR.out).mono ?_
  rintro e w1 ⟨rfl, hb1⟩
  go_wp2_with fail
  with_reducible refine (first_any w1 (HR.out.below hb1)).mono ?_
  rintro e w2 ⟨rfl, hb2⟩
  go_wp2_with fail
  go_ret
  exact ⟨rfl, hb1.trans (hb2.mono hb1.size)⟩
set_option maxRecDepth 100000 in
set_option maxHeartbeats 4000000 in
theorem walk_short (A : Option Addr) (l : List Nat) (n c : Nat) (most : Int) (w : World) (hR : Rdy w) (hA : At .u8 w w.heap.size A l) (hb : ∀ x ∈ l, x < 256) (hl : l.length = n) (hc : A = none → c = 0) (hnc : n ≤ c) (hn : n ≤ 1000) :
    Calls Tryd.prog 3 #[.slice A n c, .int .i64 most] w (Yes w) := by
  have HR := Lib.hid hR
  have HA := Lib.hid fun (w' : World) (hb : Below w.heap.size w w') => hA.up hb
  have HB := Lib.hid hb
  have HL := Lib.hid hl
  have HC := Lib.hid hc
  have q1 : decide ((1000 : Int) < (n : Int)) = false := by simp; omega
  obtain ⟨D, hD⟩ : ∃ D, D = dec l most := ⟨_, rfl⟩
  obtain ⟨E, hE⟩ : ∃ E, E = enc l := ⟨_, rfl⟩
  obtain ⟨N, hN⟩ : ∃ N, N = nBits l := ⟨_, rfl⟩
  have HDB : Hid (∀ x ∈ D.1, x < 256) := Lib.hid (by rw [hD]; exact dec_byte l most)
  have HEB : Hid (∀ x ∈ E, x < 256) := Lib.hid (by rw [hE]; exact enc_byte l)
  have HD := Lib.hid hD
  have HE := Lib.hid hE
  have HN := Lib.hid hN
  clear hR hA hb hl hc hD hE hN
  obtain ⟨D1, D2⟩ := D
  have HDB1 : Hid (∀ x ∈ D1, x < 256) := Lib.hid HDB.out
  clear HDB
  go_enter Tryd.func3, Tryd.ntmps3
  go_wp2_with fail
  with_reducible refine (first_any w HR.out).mono ?_
  rintro e w1 ⟨rfl, hb1⟩
  go_wp2_with fail
  with_reducible refine (codes_any w1).mono ?_
  rintro e w2 ⟨Ac, Al, rfl, hcod, hlen, hbn⟩
  obtain ⟨bl, ol, hAl, cl0⟩ := hlen.ln 0 (by omega)
  obtain ⟨bc, oc, hAc, cc0⟩ := hcod.cd 0 (by omega)
  subst hAl hAc
  have hbl : bl < w2.heap.size := World.block_lt_of_cell? w2 _ cl0
  have hbc : bc < w2.heap.size := World.block_lt_of_cell? w2 _ cc0
  have HLEN := Lib.hid hlen
  have HCOD := Lib.hid hcod
  have hb2 := hb1.trans (hbn.mono hb1.size)
  clear hb1 hbn hcod hlen cl0 cc0
  go_wp2
  go_loopw [7] (fun i wr => TlR w2 i wr) (fun i _ => 256 - (intOf i).toNat)
  case atStart => exact ⟨0, by omega, rfl, Below.refl _ _⟩
  case round =>
    obtain ⟨k, hk, rfl, hbr⟩ := hrel
    have hbw := hb2.trans (hbr.mono hb2.size)
    by_cases hlt : k < 256
    · obtain ⟨bl', ol', e1, cl⟩ := HLEN.out.ln k (by omega)
      obtain ⟨bc', oc', e2, cc⟩ := HCOD.out.cd k (by omega)
      injection e1 with e1a e1b
      injection e2 with e2a e2b
      subst e1a e1b e2a e2b
      have HF := Lib.hid (code_f k wr (HR.out.below hbw) hlt)
      unfold CodePost at HF
      obtain ⟨y1, hy1⟩ : ∃ y, y = ln k := ⟨_, rfl⟩
      obtain ⟨y2, hy2⟩ : ∃ y, y = cd k := ⟨_, rfl⟩
      rw [← hy1] at cl HF
      rw [← hy2] at cc HF
      have wk : IntKind.u8.wrap (k : Int) = (k : Int) := by rw [IntKind.wrap_u8']; omega
      have ki : (k : Int) < 256 := by omega
      have ki2 : (k : Int) < 257 := by omega
      have n1 : ((y1 : Int) != (y1 : Int)) = false := by simp
      have n2 : ((y2 : Int) != (y2 : Int)) = false := by simp
      have HCL := Lib.hid cl
      have HCC := Lib.hid cc
      clear hy1 hy2 cl cc hbw
      go_wp2_with fail
      with_reducible refine (HF.out).mono ?_
      rintro e w3 ⟨rfl, hb3⟩
      have hbr3 := hbr.trans (hb3.mono hbr.size)
      have cl : w3.cell? ⟨bl, ol + k, none⟩ = some (.int .i64 (y1 : Int)) := (hbr3.cell (p := ⟨bl, ol + k, none⟩) hbl).trans HCL.out
      have cc : w3.cell? ⟨bc, oc + k, none⟩ = some (.int .u32 (y2 : Int)) := (hbr3.cell (p := ⟨bc, oc + k, none⟩) hbc).trans HCC.out
      clear HF hb3 hbr
      go_wp2
      go_roundw
      case rel => exact ⟨k + 1, by omega, by go_num, hbr3⟩
      case measure => simp [intOf]; omega
    · obtain rfl : k = 256 := by omega
      clear hbr hb2
      go_wp2_with fail
      with_reducible refine (dec_f A l n c most wr (HR.out.below hbw) (HA.out _ hbw) HB.out HL.out HC.out hnc (by omega)).mono ?_
      rw [← HD.out]
      rintro e w3 ⟨A3, c3, rfl, hat3, _, hbn⟩
      have hb3 := hbw.trans (hbn.mono hbw.size)
      clear hbn hbw
      go_wp2_with fail
      with_reducible refine (rdec_any A l n c most w3 (HA.out _ hb3) HB.out HL.out (by omega)).mono ?_
      rw [← HD.out]
      rintro e w4 ⟨A4, c4, rfl, hat4, _, hbn⟩
      have hb4 := hb3.trans (hbn.mono hb3.size)
      have H34 := Lib.hid (hat3.up hbn)
      have H4 := Lib.hid hat4
      clear hbn hb3 hat3 hat4
      go_wp2_with fail
      with_reducible refine (first_any w4 (HR.out.below hb4)).mono ?_
      rintro e w5 ⟨rfl, hbn⟩
      have hb5 := hb4.trans (hbn.mono hb4.size)
      have H35 := Lib.hid (H34.out.up hbn)
      have H45 := Lib.hid (H4.out.up hbn)
      clear hbn hb4 H34 H4
      go_wp2_with fail
      with_reducible refine (bits_f A l n c w5 (HR.out.below hb5) (HA.out _ hb5) HB.out HL.out HC.out hnc (by omega)).mono ?_
      rw [← HN.out]
      rintro e w6 ⟨rfl, hbn⟩
      have hb6 := hb5.trans (hbn.mono hb5.size)
      have H36 := Lib.hid (H35.out.up hbn)
      have H46 := Lib.hid (H45.out.up hbn)
      clear hbn hb5 H35 H45
      go_wp2_with fail
      with_reducible refine (rbits_any A l n c w6 (HA.out _ hb6) HB.out HL.out (by omega)).mono ?_
      rw [← HN.out]
      rintro e w7 ⟨rfl, hbn⟩
      have hb7 := hb6.trans (hbn.mono hb6.size)
      have H37 := Lib.hid (H36.out.up hbn)
      have H47 := Lib.hid (H46.out.up hbn)
      have eN : ((N : Int) == (N : Int)) = true := by simp
      clear hbn hb6 H36 H46
      go_wp2_with fail
      with_reducible refine (enc_f A l n c w7 (HR.out.below hb7) (HA.out _ hb7) HB.out HL.out HC.out hnc (by omega)).mono ?_
      rw [← HE.out]
      rintro e w8 ⟨v8, rfl, hr8⟩
      obtain ⟨A8, c8, rfl, hat8, _, _⟩ := hr8.at
      have hb8 := hb7.trans (hr8.2.mono hb7.size)
      have H38 := Lib.hid (H37.out.up hr8.2)
      have H48 := Lib.hid (H47.out.up hr8.2)
      have H8 := Lib.hid hat8
      clear hb7 H37 H47 hr8 hat8
      go_wp2_with fail
      with_reducible refine (renc_any A l n c w8 (HA.out _ hb8) HB.out HL.out (by omega)).mono ?_
      rw [← HE.out]
      rintro e w9 ⟨v9, rfl, hr9⟩
      obtain ⟨A9, c9, rfl, hat9, _, _⟩ := hr9.at
      have hb9 := hb8.trans (hr9.2.mono hb8.size)
      have H39 := Lib.hid (H38.out.up hr9.2)
      have H49 := Lib.hid (H48.out.up hr9.2)
      have H89 := Lib.hid (H8.out.up hr9.2)
      have H9 := Lib.hid hat9
      clear hb8 H38 H48 H8 hr9 hat9
      go_wp2_with fail
      with_reducible refine (bytes_any A8 A9 E E _ _ c8 c9 w9 _ _ H89.out H9.out HEB.out HEB.out rfl rfl).mono ?_
      rw [decide_eq_true (rfl : E = E)]
      rintro e w' ⟨rfl, rfl⟩
      have e2 : ((D2 : Int) == (D2 : Int)) = true := by simp
      clear H89 H9
      go_wp2_with fail
      with_reducible refine (bytes_any A3 A4 D1 D1 _ _ c3 c4 w9 _ _ H39.out H49.out HDB1.out HDB1.out rfl rfl).mono ?_
      rw [decide_eq_true (rfl : D1 = D1)]
      rintro e w' ⟨rfl, rfl⟩
      go_wp2_with fail
      go_ret
      exact ⟨rfl, hb9⟩
theorem walk (A : Option Addr) (l : List Nat) (c : Nat) (most : Int) (w : World) (hR : Rdy w) (hA : At .u8 w w.heap.size A l) (hb : ∀ x ∈ l, x < 256) (hc : A = none → c = 0) (hnc : l.length ≤ c) :
    Calls Tryd.prog 3 #[.slice A l.length c, .int .i64 most] w (Yes w) := by
  by_cases hl : 1000 < l.length
  · exact walk_long A _ c most w hR hl
  · exact walk_short A l _ c most w hR hA hb rfl hc hnc (by omega)
end huffTells
end Go.Proofs.YtpoffmnaoohkpaaDoor
