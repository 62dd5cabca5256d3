/- The walk of PartReads. -/
import Derived.Test.YtelbldhnlmggiaaPtFew
import Derived.Test.YtelbldhnlmggiaaPtOut
import Derived.Test.YtelbldhnlmggiaaPtRead
import Derived.Test.YtelbldhnlmggiaaPtSame
namespace Go.Proofs.Ytelbldhnlmggiaa
open Go.RowKit Fr

namespace partReads
def FtR (w : World) (n : Nat) (i : Value) (wr : World) : Prop := ∃ k : Nat, k ≤ n ∧ i = .int .i64 (k : Int) ∧ Below w.heap.size w wr
set_option maxRecDepth 100000 in
set_option maxHeartbeats 16000000 in
theorem walk_in (A : Option Addr) (l : List FrA) (n c : Nat) (w : World) (hA : AtR w w.heap.size A l) (hl : l.length = n) (hf : few10 l = true) : Calls Try.prog 3 #[.slice A n c] w (YesP w) := by
  have HFST := Lib.hid fun (W : World) => first11_any W
  have HFEW : Hid (∀ W, Below w.heap.size w W → Calls Try.prog 8 #[.slice A n c] W fun e w' => e = .returned (.bool true) ∧ w' = W) := Lib.hid (fun W hb => by rw [← hf]; exact few10_any A l n c W (hA.up hb) hl)
  obtain ⟨hn, hbod⟩ := few10_true hf
  rw [hl] at hn
  have HA := Lib.hid hA
  have HL := Lib.hid hl
  have HBOD := Lib.hid hbod
  clear hA hl hf hbod
  go_enter Try.func3, Try.ntmps3
  go_wp2_with fail
  with_reducible refine (HFST.out w).mono ?_
  rintro e w1 ⟨rfl, hb1⟩
  have HB1 := Lib.hid hb1
  have HFW := Lib.hid (HFEW.out w1 hb1)
  clear hb1 HFEW
  go_wp2_with fail
  with_reducible refine (HFW.out).mono ?_
  rintro e w2 ⟨rfl, rfl⟩
  clear HFW
  go_wp2
  go_loopw [3] (fun i wr => FtR w n i wr) (fun i _ => n - (intOf i).toNat)
  case atStart => exact ⟨0, Nat.zero_le _, rfl, HB1.out⟩
  case round =>
    obtain ⟨k, hk, rfl, hbw⟩ := hrel
    by_cases hlt : k < n
    · have ki : (k : Int) < (n : Int) := by omega
      have hkl : k < l.length := by have := HL.out; omega
      obtain ⟨b, o, rfl, hb, hc⟩ := HA.out.pos (by omega)
      obtain ⟨⟨d0, d1, d2, d3⟩, hok⟩ := hc k hkl
      have hbl : l[k].f.body.length ≤ 40000 := Nat.le_trans (body_le (List.getElem_mem hkl)) HBOD.out
      obtain ⟨s, hs⟩ : ∃ s, s = l[k] := ⟨_, rfl⟩
      rw [← hs] at d0 d1 d2 d3 hok hbl
      have HX : Hid (∀ W, Below w.heap.size w W → W.cell? ⟨b, o + k * 4, none⟩ = some (.int .i64 s.f.kind) ∧ W.cell? ⟨b, o + k * 4 + 1, none⟩ = some (.int .i64 s.f.flags) ∧ W.cell? ⟨b, o + k * 4 + 2, none⟩ = some (.int .i64 s.f.stream) ∧ W.cell? ⟨b, o + k * 4 + 3, none⟩ = some (.slice s.ad s.f.body.length s.cap)) := Lib.hid (fun W hB => ⟨(hB.cell (p := ⟨b, o + k * 4, none⟩) hb).trans d0, (hB.cell (p := ⟨b, o + k * 4 + 1, none⟩) hb).trans d1, (hB.cell (p := ⟨b, o + k * 4 + 2, none⟩) hb).trans d2, (hB.cell (p := ⟨b, o + k * 4 + 3, none⟩) hb).trans d3⟩)
      obtain ⟨R, hR⟩ : ∃ R, R = Fr.read s.f := ⟨_, rfl⟩
      have HP : Hid (∀ W, Below w.heap.size w W → Calls Try.prog 9 #[.agg #[.int .i64 s.f.kind, .int .i64 s.f.flags, .int .i64 s.f.stream, .slice s.ad s.f.body.length s.cap]] W (PtPost W R)) := Lib.hid (fun W hB => by rw [hR]; exact pread_f s W (hok.up hB) (by omega))
      have HQ : Hid (∀ W, Below w.heap.size w W → Calls Try.prog 10 #[.agg #[.int .i64 s.f.kind, .int .i64 s.f.flags, .int .i64 s.f.stream, .slice s.ad s.f.body.length s.cap]] W (PtPost W R)) := Lib.hid (fun W hB => by rw [hR]; exact rread_any s.f s.ad s.cap W (hok.up hB).at' hok.bytes hok.nil hok.room (by omega))
      have hfine := fine_read s.f
      rw [← hR] at hfine
      obtain ⟨P, F⟩ := R
      have HFB : Hid (∀ x ∈ P.data, x < 256) := Lib.hid (fun x hx => hok.bytes x (hfine.1 x hx))
      have HFS : Hid (P.sets.length ≤ 100000) := Lib.hid (by have := hfine.2; simp only [] at this; omega)
      obtain ⟨x0, x1, x2, x3⟩ := HX.out wr hbw
      have HP1 := Lib.hid (HP.out wr hbw)
      have HBW := Lib.hid hbw
      have HKL : Hid (k + 1 ≤ n) := Lib.hid hlt
      clear hs d0 d1 d2 d3 hok hbl hc hb hbw hR hfine hkl hk hlt HP
      go_wp2_with fail
      with_reducible refine (HP1.out).mono ?_
      rintro e w3 ⟨A1, c1, B1, d1, rfl, hat1, hA1, hc1, hbt1, hB1, hd1, _, _, hb3⟩
      have HAT1 := Lib.hid hat1
      have HBT1 := Lib.hid hbt1
      have HB3 := Lib.hid (HBW.out.trans (hb3.mono HBW.out.size))
      clear hat1 hA1 hc1 hbt1 hB1 hd1 hb3 HP1 x0 x1 x2 x3
      have HSM : Hid (∀ (A2 B2 : Option Addr) (c2 d2 : Nat) (W : World), Below w3.heap.size w3 W → At .u8 W W.heap.size A2 P.data → AtS W W.heap.size B2 P.sets → Calls Try.prog 11 #[prt P A1 c1 B1 d1, prt P A2 c2 B2 d2] W (BoolPost W true)) := Lib.hid (fun A2 B2 c2 d2 W hb ha hs => rpsame_self P A1 B1 A2 B2 c1 d1 c2 d2 W (HAT1.out.up hb) ha HFB.out (HBT1.out.up hb) hs HFS.out)
      clear HAT1 HBT1 HFB HFS
      obtain ⟨D, pad, code, last, step, sets, e1, e2, e3⟩ := P
      obtain ⟨bad, conn, fc⟩ := F
      simp only [prt, flt] at *
      obtain ⟨dn, hdn⟩ : ∃ dn, dn = D.length := ⟨_, rfl⟩
      obtain ⟨sn, hsn⟩ : ∃ sn, sn = sets.length := ⟨_, rfl⟩
      rw [← hdn, ← hsn] at HSM ⊢
      have HDN := Lib.hid hdn
      have HSN := Lib.hid hsn
      clear hdn hsn
      go_upto_region 9 with fail
      obtain ⟨w4, hw4⟩ : ∃ w4, w4 = (w3.alloc (.cells #[.slice A1 dn c1, .int .i64 (pad : Int), .int .i64 (code : Int), .int .i64 (last : Int), .int .i64 (step : Int), .slice B1 sn d1, .bool e1, .bool e2, .bool e3] 28)).alloc (.cells #[.bool bad, .bool conn, .int .i64 (fc : Int)] 30) := ⟨_, rfl⟩
      obtain ⟨hp4, hf4, hb4, hs4⟩ := kept_spec w3 (.slice A1 dn c1) (.int .i64 (pad : Int)) (.int .i64 (code : Int)) (.int .i64 (last : Int)) (.int .i64 (step : Int)) (.slice B1 sn d1) (.bool e1) (.bool e2) (.bool e3) (.bool bad) (.bool conn) (.int .i64 (fc : Int))
      rw [← show w4 = kept w3 _ _ _ _ _ _ _ _ _ _ _ _ from hw4] at hp4 hf4 hb4 hs4
      rw [← hw4]
      obtain ⟨g, hg⟩ : ∃ g, g = w3.heap.size := ⟨_, rfl⟩
      rw [← hg] at hp4 hf4 ⊢
      have HB4 := Lib.hid hb4
      have HW4 := Lib.hid (HB3.out.trans (hb4.mono HB3.out.size))
      have HP4 := Lib.hid hp4
      have HF4 := Lib.hid hf4
      have HQ4 := Lib.hid (HQ.out w4 HW4.out)
      obtain ⟨x0, x1, x2, x3⟩ := HX.out w4 HW4.out
      clear hw4 hp4 hf4 hb4 hs4 HQ hg
      go_wp2_with fail
      with_reducible refine (HQ4.out).mono ?_
      rintro e w5 ⟨A2, c2, B2, d2, rfl, hat2, _, _, hbt2, _, _, _, _, hb5⟩
      have hp5 := (hb5.block g (lt_of_heapK HP4.out)).trans HP4.out
      have hf5 := (hb5.block (g + 1) (lt_of_heapK HF4.out)).trans HF4.out
      have HW5 := Lib.hid (HW4.out.trans (hb5.mono HW4.out.size))
      simp only [prt, flt] at hat2 hbt2 ⊢
      rw [← HDN.out, ← HSN.out]
      go_upto_region 10 with fail
      obtain ⟨w6, hw6⟩ : ∃ w6, w6 = (w5.alloc (.cells #[.slice A2 dn c2, .int .i64 (pad : Int), .int .i64 (code : Int), .int .i64 (last : Int), .int .i64 (step : Int), .slice B2 sn d2, .bool e1, .bool e2, .bool e3] 28)).alloc (.cells #[.bool bad, .bool conn, .int .i64 (fc : Int)] 30) := ⟨_, rfl⟩
      obtain ⟨hp6, hf6, hb6, hs6⟩ := kept_spec w5 (.slice A2 dn c2) (.int .i64 (pad : Int)) (.int .i64 (code : Int)) (.int .i64 (last : Int)) (.int .i64 (step : Int)) (.slice B2 sn d2) (.bool e1) (.bool e2) (.bool e3) (.bool bad) (.bool conn) (.int .i64 (fc : Int))
      rw [← show w6 = kept w5 _ _ _ _ _ _ _ _ _ _ _ _ from hw6] at hp6 hf6 hb6 hs6
      rw [← hw6]
      obtain ⟨h, hh⟩ : ∃ h, h = w5.heap.size := ⟨_, rfl⟩
      rw [← hh] at hp6 hf6 ⊢
      have hp56 := (hb6.block g (lt_of_heapK hp5)).trans hp5
      have hf56 := (hb6.block (g + 1) (lt_of_heapK hf5)).trans hf5
      have HSAME := Lib.hid (HSM.out A2 B2 c2 d2 w6 (HB4.out.trans ((hb5.trans (hb6.mono hb5.size)).mono HB4.out.size)) (hat2.up hb6) (hbt2.up hb6))
      have HW6 := Lib.hid (HW5.out.trans (hb6.mono HW5.out.size))
      have a0 : w6.cell? ⟨g, 0, none⟩ = some (.slice A1 dn c1) := cell_of_row _ _ 0 _ 28 _ hp56
      have a1 : w6.cell? ⟨g, 1, none⟩ = some (.int .i64 (pad : Int)) := cell_of_row _ _ 1 _ 28 _ hp56
      have a2 : w6.cell? ⟨g, 2, none⟩ = some (.int .i64 (code : Int)) := cell_of_row _ _ 2 _ 28 _ hp56
      have a3 : w6.cell? ⟨g, 3, none⟩ = some (.int .i64 (last : Int)) := cell_of_row _ _ 3 _ 28 _ hp56
      have a4 : w6.cell? ⟨g, 4, none⟩ = some (.int .i64 (step : Int)) := cell_of_row _ _ 4 _ 28 _ hp56
      have a5 : w6.cell? ⟨g, 5, none⟩ = some (.slice B1 sn d1) := cell_of_row _ _ 5 _ 28 _ hp56
      have a6 : w6.cell? ⟨g, 6, none⟩ = some (.bool e1) := cell_of_row _ _ 6 _ 28 _ hp56
      have a7 : w6.cell? ⟨g, 7, none⟩ = some (.bool e2) := cell_of_row _ _ 7 _ 28 _ hp56
      have a8 : w6.cell? ⟨g, 8, none⟩ = some (.bool e3) := cell_of_row _ _ 8 _ 28 _ hp56
      have b0 : w6.cell? ⟨g + 1, 0, none⟩ = some (.bool bad) := cell_of_row _ _ 0 _ 30 _ hf56
      have b1 : w6.cell? ⟨g + 1, 1, none⟩ = some (.bool conn) := cell_of_row _ _ 1 _ 30 _ hf56
      have b2 : w6.cell? ⟨g + 1, 2, none⟩ = some (.int .i64 (fc : Int)) := cell_of_row _ _ 2 _ 30 _ hf56
      have c0 : w6.cell? ⟨h, 0, none⟩ = some (.slice A2 dn c2) := cell_of_row _ _ 0 _ 28 _ hp6
      have c1 : w6.cell? ⟨h, 1, none⟩ = some (.int .i64 (pad : Int)) := cell_of_row _ _ 1 _ 28 _ hp6
      have c2 : w6.cell? ⟨h, 2, none⟩ = some (.int .i64 (code : Int)) := cell_of_row _ _ 2 _ 28 _ hp6
      have c3 : w6.cell? ⟨h, 3, none⟩ = some (.int .i64 (last : Int)) := cell_of_row _ _ 3 _ 28 _ hp6
      have c4 : w6.cell? ⟨h, 4, none⟩ = some (.int .i64 (step : Int)) := cell_of_row _ _ 4 _ 28 _ hp6
      have c5 : w6.cell? ⟨h, 5, none⟩ = some (.slice B2 sn d2) := cell_of_row _ _ 5 _ 28 _ hp6
      have c6 : w6.cell? ⟨h, 6, none⟩ = some (.bool e1) := cell_of_row _ _ 6 _ 28 _ hp6
      have c7 : w6.cell? ⟨h, 7, none⟩ = some (.bool e2) := cell_of_row _ _ 7 _ 28 _ hp6
      have c8 : w6.cell? ⟨h, 8, none⟩ = some (.bool e3) := cell_of_row _ _ 8 _ 28 _ hp6
      have d0 : w6.cell? ⟨h + 1, 0, none⟩ = some (.bool bad) := cell_of_row _ _ 0 _ 30 _ hf6
      have d1 : w6.cell? ⟨h + 1, 1, none⟩ = some (.bool conn) := cell_of_row _ _ 1 _ 30 _ hf6
      have d2 : w6.cell? ⟨h + 1, 2, none⟩ = some (.int .i64 (fc : Int)) := cell_of_row _ _ 2 _ 30 _ hf6
      clear hp56 hf56 hp6 hf6 hp5 hf5 hb6 hs6 hw6 hb5 hat2 hbt2 x0 x1 x2 x3 hh
      cases bad with
      | true =>
        go_wp2
        go_roundw
        case rel => exact ⟨k + 1, HKL.out, by go_num, HW6.out⟩
        case measure => (have := HKL.out; simp [intOf]; omega)
      | false =>
        go_wp2_with fail
        with_reducible refine (HSAME.out).mono ?_
        rintro e w7 ⟨rfl, hb7⟩
        have HW7 := Lib.hid (HW6.out.trans (hb7.mono HW6.out.size))
        clear hb7 HSAME
        go_wp2
        go_roundw
        case rel => exact ⟨k + 1, HKL.out, by go_num, HW7.out⟩
        case measure => (have := HKL.out; simp [intOf]; omega)
    · obtain rfl : k = n := by omega
      have ki : ¬ (k : Int) < (k : Int) := by omega
      have HF9 := Lib.hid (HFST.out wr)
      have HBW := Lib.hid hbw
      clear hbw
      go_wp2_with fail
      with_reducible refine (HF9.out).mono ?_
      rintro e w3 ⟨rfl, hb3⟩
      have HZ := Lib.hid (HBW.out.trans (hb3.mono HBW.out.size))
      clear hb3 HF9
      go_wp2
      go_ret
      exact ⟨rfl, HZ.out⟩
theorem walk_any (A : Option Addr) (l : List FrA) (n c : Nat) (w : World) (hA : AtR w w.heap.size A l) (hl : l.length = n) : Calls Try.prog 3 #[.slice A n c] w (YesP w) := by
  cases hf : few10 l with
  | true => exact walk_in A l n c w hA hl hf
  | false =>
    have HFST := Lib.hid fun (W : World) => first11_any W
    have HFEW : Hid (∀ W, Below w.heap.size w W → Calls Try.prog 8 #[.slice A n c] W fun e w' => e = .returned (.bool false) ∧ w' = W) := Lib.hid (fun W hb => by rw [← hf]; exact few10_any A l n c W (hA.up hb) hl)
    clear hA hl hf
    go_enter Try.func3, Try.ntmps3
    go_wp2_with fail
    with_reducible refine (HFST.out w).mono ?_
    rintro e w1 ⟨rfl, hb1⟩
    have HB1 := Lib.hid hb1
    have HFW := Lib.hid (HFEW.out w1 hb1)
    clear hb1 HFEW
    go_wp2_with fail
    with_reducible refine (HFW.out).mono ?_
    rintro e w2 ⟨rfl, rfl⟩
    have HF2 := Lib.hid (HFST.out w2)
    clear HFW
    go_wp2_with fail
    with_reducible refine (HF2.out).mono ?_
    rintro e w3 ⟨rfl, hb3⟩
    have HZ := Lib.hid (HB1.out.trans (hb3.mono HB1.out.size))
    clear hb3 HF2
    go_wp2
    go_ret
    exact ⟨rfl, HZ.out⟩
end partReads
end Go.Proofs.Ytelbldhnlmggiaa
