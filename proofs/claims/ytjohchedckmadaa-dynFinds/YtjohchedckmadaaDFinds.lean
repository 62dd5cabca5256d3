/- The walk of DynFinds. -/
import Derived.Test.YtjohchedckmadaaDFits2
import Derived.Laws.MakeOwn
import Derived.Laws.BytesString
import Derived.Laws.Cells
namespace Go.Proofs.Ytjohchedckmadaa
open Go.RowKit

theorem fit_zero (l : List Fld) : fitL 0 l = [] := by
  cases l with
  | nil => rfl
  | cons f r => rw [fitL, if_neg (by unfold fsize; omega)]
/-- A name that none bears is not found. -/
theorem fndL_none (n v : List UInt8) : ∀ (l : List Fld) (i : Nat), (∀ f ∈ l, f.name.toList ≠ n) → fndL n v l i = (0, 0)
  | [], _, _ => rfl
  | f :: r, i, h => by
    have h1 : (f.name.toList == n) = false := beq_eq_false_iff_ne.2 (h f (by simp))
    rw [fndL, h1]
    exact fndL_none n v r (i + 1) (fun g hg => h g (by simp [hg]))
theorem len_size (s : ByteArray) : s.toList.length = s.size := by
  obtain ⟨⟨l⟩⟩ := s
  rw [ByteArray.toList_mk]
  rfl
theorem push_size : ∀ (ns : List Int) (s : ByteArray), (ns.foldl (fun r n => r.push (UInt8.ofNat n.toNat)) s).size = s.size + ns.length
  | [], s => by simp
  | n :: r, s => by
    rw [List.foldl_cons, push_size r, ByteArray.size_push, List.length_cons]
    omega
theorem infoU8 : (Try.prog.info? 5).map (fun i => (i.zero, i.size, i.bytes)) = some (some (.int .u8 0), 1, 1) := by kernel_rfl
/-- A made row of bytes, as a string: so many. -/
theorem conv_zero (W : World) (B g n : Nat) (h : W.ownsRow B 5 1 (.slice (some ⟨g, 0, none⟩) n n) n (List.replicate n (.int .u8 0))) : ∃ Z : ByteArray, Z.size = n ∧ (convert 48 9 (.slice (some ⟨g, 0, none⟩) n n)).run Try.prog W = .ok (.string Z) W := by
  have hl := run_loadCells_list (P := Try.prog) (w := W) ⟨g, 0, none⟩ ((List.replicate n (0 : Int)).map (Value.int .u8)) (fun j v hj => by
    rw [List.map_replicate] at hj
    exact h.cells (g := g) rfl j v hj)
  rw [List.length_map, List.length_replicate] at hl
  refine ⟨_, ?_, (run_convert_bytes_string W 48 9 5 _ n n Try.underlying48 Try.underlying5 Try.underlying9).trans (run_bytesToString W ⟨g, 0, none⟩ n n (List.replicate n 0) hl)⟩
  rw [push_size]
  simp
namespace dynFinds
set_option maxRecDepth 100000 in
set_option maxHeartbeats 4000000 in
theorem walk_not (A : Option Addr) (l : List Opn) (n c : Nat) (w : World) (hR : Rdy w) (hA : AtO w w.heap.size A l) (hl : l.length = n) (hok : ∀ q ∈ l, q.fld.fit) (hf : few7 l = false) :
    Calls Try.prog 5 #[.slice A n c] w (Yes w) := by
  have HR := Lib.hid fun (w' : World) (hb : Below w.heap.size w w') => hR.below hb
  have HFI := Lib.hid (first_any w hR)
  clear hR
  go_enter Try.func5, Try.ntmps5
  go_wp2_with fail
  with_reducible refine (HFI.out).mono ?_
  rintro e w1 ⟨rfl, hb1⟩
  have HNW := Lib.hid (Has.new (m := 4096) (HR.out _ hb1) hb1 (by omega) 4096 rfl)
  clear hb1 HFI
  go_wp2_with fail
  with_reducible refine (HNW.out).mono ?_
  rintro e w2 ⟨p, rfl, hH⟩
  have HF := few7_any A l n c w2 (hA.up hH.below) hl hok
  rw [hf] at HF
  have HF := Lib.hid HF
  clear hA hl hok HNW
  go_wp2_with fail
  with_reducible refine (HF.out).mono ?_
  rintro e w3 ⟨rfl, hbn⟩
  have hb3 := hH.below.trans (hbn.mono hH.below.size)
  have HF2 := Lib.hid (first_any w3 (HR.out _ hb3))
  clear HF hbn hH
  go_wp2_with fail
  with_reducible refine (HF2.out).mono ?_
  rintro e w4 ⟨rfl, hbn⟩
  have hb4 := hb3.trans (hbn.mono hb3.size)
  go_wp2_with fail
  go_ret
  exact ⟨rfl, hb4⟩
def FnA (w : World) (n p : Nat) (i : Value) (wr : World) : Prop := ∃ k L, k ≤ n ∧ i = .int .i64 (k : Int) ∧ Has w p 4096 L wr ∧ L.length ≤ k
def FnB (w : World) (n p : Nat) (L : List Fld) (i : Value) (wr : World) : Prop := ∃ k, k ≤ n ∧ i = .int .i64 (k : Int) ∧ Has w p 4096 L wr
def FnC (w wa : World) (p : Nat) (L : List Fld) (nm vl : List UInt8) (b o i : Value) (wr : World) : Prop := ∃ j, j ≤ L.length ∧ i = .int .i64 (j : Int) ∧ b = .int .i64 (((fndL nm vl (L.drop j) j).1 : Nat) : Int) ∧ o = .int .i64 (((fndL nm vl (L.drop j) j).2 : Nat) : Int) ∧ Has w p 4096 L wr ∧ Below wa.heap.size wa wr
set_option maxRecDepth 100000 in
set_option maxHeartbeats 8000000 in
theorem walk_few (A : Option Addr) (l : List Opn) (n c : Nat) (w : World) (hR : Rdy w) (hA : AtO w w.heap.size A l) (hl : l.length = n) (hf : few7 l = true) :
    Calls Try.prog 5 #[.slice A n c] w (Yes w) := by
  have HR := Lib.hid fun (w' : World) (hb : Below w.heap.size w w') => hR.below hb
  have HFI := Lib.hid (first_any w hR)
  obtain ⟨hn200, htl⟩ := few7_tot hf
  have hn2 : n ≤ 200 := by omega
  have HTL : Hid (∀ q ∈ l, fsize q.fld ≤ 46400) := Lib.hid (fun q hq => Nat.le_trans (fsize_le (List.mem_map.2 ⟨q, hq, rfl⟩)) htl)
  have HFIT : Hid (∀ q ∈ l, q.fld.fit) := Lib.hid (fun q hq => by
    have h := HTL.out q hq
    unfold fsize at h
    exact ⟨by omega, by omega⟩)
  have HA := Lib.hid hA
  have HL := Lib.hid hl
  clear hR hn200 htl
  go_enter Try.func5, Try.ntmps5
  go_wp2_with fail
  with_reducible refine (HFI.out).mono ?_
  rintro e w1 ⟨rfl, hb1⟩
  have HNW := Lib.hid (Has.new (m := 4096) (HR.out _ hb1) hb1 (by omega) 4096 rfl)
  clear hb1 HFI
  go_wp2_with fail
  with_reducible refine (HNW.out).mono ?_
  rintro e w2 ⟨p, rfl, hH⟩
  have HF := few7_any A l n c w2 (hA.up hH.below) hl HFIT.out
  rw [hf] at HF
  have HF := Lib.hid HF
  clear hA hl HNW hf
  go_wp2_with fail
  with_reducible refine (HF.out).mono ?_
  rintro e w3 ⟨rfl, hbn⟩
  have hH3 := hH.quiet hbn
  have hr0 : FnA w n p (.int .i64 0) w3 := ⟨0, [], Nat.zero_le _, rfl, hH3, Nat.le_refl _⟩
  clear HF hbn hH hH3
  go_wp2
  go_loopw [5] (fun i wr => FnA w n p i wr) (fun i _ => n - (intOf i).toNat)
  case atStart => exact hr0
  case round =>
    clear hr0
    obtain ⟨k, L, hk, rfl, hH, hLk⟩ := hrel
    by_cases hlt : k < n
    · have ki : (k : Int) < (n : Int) := by omega
      have hkl : k < l.length := by have := HL.out; omega
      obtain ⟨b, o, rfl, hb, hc⟩ := HA.out.pos (by omega)
      obtain ⟨q, hq⟩ : ∃ q, q = l[k] := ⟨_, rfl⟩
      have hop := (hc k hkl).below hH.below hb
      rw [← hq] at hop
      have HADD := Lib.hid (hH.add (HR.out _ hH.below) q.fld (HTL.out q (by rw [hq]; exact List.getElem_mem _)))
      obtain ⟨K, N, F1, F2, F3⟩ := q
      obtain ⟨_, _, d2, d3, d4⟩ := hop
      simp only [] at d2 d3 d4 HADD
      clear hc hkl hq hH
      go_wp2_with fail
      with_reducible refine (HADD.out).mono ?_
      rintro e w4 ⟨rfl, hH4⟩
      clear d2 d3 d4 HADD
      go_wp2
      go_roundw
      case rel => exact ⟨k + 1, _, by omega, by go_num, hH4, by have := add_len 4096 ⟨F1, F2, F3⟩ L; omega⟩
      case measure => simp [intOf]; omega
    · obtain rfl : k = n := by omega
      have ki : ¬ (k : Int) < (k : Int) := by omega
      have hr1 : FnB w k p L (.int .i64 0) wr := ⟨0, Nat.zero_le _, rfl, hH⟩
      obtain ⟨hT, _⟩ := hH.fits
      have htp := tot_pos L
      have hLb : L.length ≤ 128 := by omega
      have HT := Lib.hid hT
      clear hH hT htp
      go_wp2
      go_loopw [6, 7, 8, 9, 10, 11, 12, 13, 14] (fun i _ _ _ _ _ _ _ _ wr => FnB w k p L i wr) (fun i _ _ _ _ _ _ _ _ _ => k - (intOf i).toNat)
      case atStart => exact hr1
      case round =>
        clear hr1
        obtain ⟨i, hi, rfl, hH⟩ := hrel
        by_cases hlt : i < k
        · have ii : (i : Int) < (k : Int) := by omega
          have hkl : i < l.length := by have := HL.out; omega
          obtain ⟨b, o, rfl, hb, hc⟩ := HA.out.pos (by omega)
          obtain ⟨q, hq⟩ : ∃ q, q = l[i] := ⟨_, rfl⟩
          have hop := (hc i hkl).below hH.below hb
          rw [← hq] at hop
          have hfs := HTL.out q (by rw [hq]; exact List.getElem_mem _)
          obtain ⟨K, N, F1, F2, F3⟩ := q
          obtain ⟨_, _, d2, d3, d4⟩ := hop
          simp only [] at d2 d3 d4 hfs
          unfold fsize at hfs
          simp only [] at hfs
          obtain ⟨wa, hwa⟩ : ∃ wa, wa = wr.alloc (.cells #[.string F1, .string F2, .bool F3] 33) := ⟨_, rfl⟩
          have hba : Below wr.heap.size wr wa := by rw [hwa]; exact (Below.refl _ _).alloc (Nat.le_refl _) _
          have hHa := hH.quiet hba
          obtain ⟨g, hg⟩ : ∃ g, g = wr.heap.size := ⟨_, rfl⟩
          have hh : wa.heap[g]? = some (.cells #[.string F1, .string F2, .bool F3] 33) := by rw [hwa, hg]; exact heap_alloc_new wr _
          have hgl : g < wa.heap.size := by rw [hwa, hg]; simp
          have HG0 := Lib.hid fun (W : World) (hb : Below wa.heap.size wa W) => (hb.cell (p := ⟨g, 0, none⟩) hgl).trans (cell_of_row _ g 0 _ 33 _ hh)
          have HG1 := Lib.hid fun (W : World) (hb : Below wa.heap.size wa W) => (hb.cell (p := ⟨g, 1, none⟩) hgl).trans (cell_of_row _ g 1 _ 33 _ hh)
          have HFD := hHa.find (HR.out _ hHa.below) F1 F2 (by omega) (by omega)
          obtain ⟨R, hRe⟩ : ∃ R, R = fndL F1.toList F2.toList L 0 := ⟨_, rfl⟩
          rw [← hRe] at HFD
          have HRE := Lib.hid hRe
          obtain ⟨r1, r2⟩ := R
          rw [hwa] at HFD
          have HFD := Lib.hid HFD
          clear hc hkl hq hH hRe hh
          go_wp2_with fail
          with_reducible refine (HFD.out).mono ?_
          rw [← hwa]
          rintro e w4 ⟨rfl, hH4, hb4⟩
          simp only []
          have HLN := Lib.hid (hH4.len (HR.out _ hH4.below))
          rw [← hg]
          have HHW := Lib.hid hwa
          have HHG := Lib.hid hg
          clear d2 d3 d4 HFD hwa hg hba hHa
          go_wp2_with fail
          with_reducible refine (HLN.out).mono ?_
          rintro e w5 ⟨rfl, hH5, hb5⟩
          have hb6 := hb4.trans (hb5.mono hb4.size)
          have hr2 : FnC w wa p L F1.toList F2.toList (.int .i64 0) (.int .i64 0) (.int .i64 (L.length : Int)) w5 := ⟨L.length, Nat.le_refl _, rfl, by rw [List.drop_length]; rfl, by rw [List.drop_length]; rfl, hH5, hb6⟩
          clear hH4 hb4 HLN hb5 hH5 hb6
          go_wp2
          go_loopw [10, 11, 12, 13, 14] (fun b o i _ _ wr => FnC w wa p L F1.toList F2.toList b o i wr) (fun _ _ i _ _ _ => (intOf i).toNat)
          case atStart => exact hr2
          case round =>
            clear hr2
            obtain ⟨j, hj, rfl, rfl, rfl, hH, hbx⟩ := hrel
            by_cases h0 : 0 < j
            · have j1 : (1 : Int) ≤ (j : Int) := by omega
              obtain ⟨I, hI⟩ : ∃ I, I = j - 1 := ⟨_, rfl⟩
              have hIl : I < L.length := by omega
              have hgt := hH.get (HR.out _ hH.below) (j : Int) (by unfold Rng; omega)
              rw [getL_in L j (by omega) hj] at hgt
              have HX : Hid (fndL F1.toList F2.toList (L.drop I) I = if L[I].name.toList == F1.toList then (if L[I].value.toList == F2.toList then (I + 1, I + 1) else ((fndL F1.toList F2.toList (L.drop j) j).1, I + 1)) else fndL F1.toList F2.toList (L.drop j) j) := Lib.hid (by
                rw [List.drop_eq_getElem_cons hIl, fndL, show I + 1 = j by omega])
              have hLe : L[j - 1]'(by omega) = L[I] := by congr 1; omega
              rw [hLe] at hgt
              generalize fndL F1.toList F2.toList (L.drop j) j = R at HX
              obtain ⟨s1, s2⟩ := R
              generalize L[I] = f at hgt HX
              obtain ⟨X, Y, Z⟩ := f
              simp only [] at hgt HX
              have HGT := Lib.hid hgt
              have ej : (j : Int) - 1 = (I : Int) := by omega
              have ewi : IntKind.i64.wrap (I : Int) = (I : Int) := IntWalk.i64_in _ (by omega)
              have HIJ : Hid (j = I + 1) := Lib.hid (by omega)
              clear hI hgt hLe
              go_wp2_with fail
              with_reducible refine (HGT.out).mono ?_
              rintro e w6 ⟨rfl, hH6, hb6⟩
              simp only []
              have hba : Below w6.heap.size w6 (w6.alloc (.cells #[.string X, .string Y, .bool Z] 33)) := (Below.refl _ _).alloc (Nat.le_refl _) _
              have hH7 := hH6.quiet hba
              have hb7 := hbx.trans ((hb6.mono hbx.size))
              have hb8 : Below wa.heap.size wa (w6.alloc (.cells #[.string X, .string Y, .bool Z] 33)) := hb7.alloc hb7.size _
              have e0 := HG0.out _ hb8
              have e1 := HG1.out _ hb8
              have e0 : _ = some (Value.string F1) := e0
              have e1 : _ = some (Value.string F2) := e1
              clear hH hbx HGT hH6 hb6 hba hb7
              cases hN : X.toList == F1.toList with
              | false =>
                have HN2 : Hid (fndL F1.toList F2.toList (L.drop I) I = (s1, s2)) := Lib.hid (by rw [HX.out, hN]; rfl)
                go_wp2
                go_roundw
                case rel => exact ⟨I, by omega, by go_num, by rw [HN2.out], by rw [HN2.out], hH7, hb8⟩
                case measure => simp [intOf]; omega
              | true =>
                cases hV : Y.toList == F2.toList with
                | false =>
                  have HN2 : Hid (fndL F1.toList F2.toList (L.drop I) I = (s1, I + 1)) := Lib.hid (by rw [HX.out, hN, hV]; rfl)
                  go_wp2
                  go_roundw
                  case rel => exact ⟨I, by omega, by go_num, by rw [HN2.out], by rw [HN2.out, HIJ.out], hH7, hb8⟩
                  case measure => simp [intOf]; omega
                | true =>
                  have HN2 : Hid (fndL F1.toList F2.toList (L.drop I) I = (I + 1, I + 1)) := Lib.hid (by rw [HX.out, hN, hV]; rfl)
                  go_wp2
                  go_roundw
                  case rel => exact ⟨I, by omega, by go_num, by rw [HN2.out, HIJ.out], by rw [HN2.out, HIJ.out], hH7, hb8⟩
                  case measure => simp [intOf]; omega
            · obtain rfl : j = 0 := by omega
              rw [List.drop_zero, ← HRE.out]
              have t1 : ((r1 : Int) != (r1 : Int)) = false := by simp
              have t2 : ((r2 : Int) != (r2 : Int)) = false := by simp
              go_wp2
              go_roundw
              case rel => exact ⟨i + 1, by omega, by go_num, hH⟩
              case measure => simp [intOf]; omega
        · obtain rfl : i = k := by omega
          have ii : ¬ (i : Int) < (i : Int) := by omega
          obtain ⟨i0, hi0, hz0, hz1, hz2⟩ := info_parts infoU8
          go_wp2_with (at_make; refine wpList_make_full _ rfl _ _ 48 rfl wr.heap.size 5 i0 _ 1 Try.underlying48 hi0 hz0 hz1 _ _ _ _ 5000 rfl rfl (by omega) (by omega) (by rw [hz2]; omega) (by unfold maxLen; omega) (Nat.le_refl _) ?_; intro w9 hown9 hg9; rw [show (Value.int .u8 0).cells = #[Value.int .u8 0] from rfl, toList_madeCells_one] at hown9; obtain ⟨Z, hZ, hcv⟩ := conv_zero w9 _ _ _ hown9)
          have hH9 := hH.quiet ((Below.refl wr.heap.size wr).grown hg9 (Nat.le_refl _) (fun k hk => by cases hk))
          have hnz : ((⟨#[110, 111, 32, 115, 117, 99, 104, 32, 110, 97, 109, 101]⟩ : ByteArray) ++ Z).size = 5012 := by rw [ByteArray.size_append, hZ]; rfl
          have HFD := hH9.find (HR.out _ hH9.below) (⟨#[110, 111, 32, 115, 117, 99, 104, 32, 110, 97, 109, 101]⟩ ++ Z) ⟨#[]⟩ (by rw [hnz]; omega) (by decide)
          have hnone : fndL ((⟨#[110, 111, 32, 115, 117, 99, 104, 32, 110, 97, 109, 101]⟩ : ByteArray) ++ Z).toList (ByteArray.mk #[]).toList L 0 = (0, 0) := fndL_none _ _ L 0 (fun f hf e => by
            have h1 := congrArg List.length e
            rw [len_size, len_size, hnz] at h1
            have h2 := fsize_le hf
            unfold fsize at h2
            have := HT.out
            omega)
          rw [hnone] at HFD
          have HFD := Lib.hid HFD
          clear hnone hcv hZ hnz hown9 hg9 hH hi0 hz0 hz1 hz2
          with_reducible refine (HFD.out).mono ?_
          rintro e w4 ⟨rfl, hH4, _⟩
          simp only []
          have HLN := Lib.hid (hH4.len (HR.out _ hH4.below))
          clear HFD hH9
          go_wp2_with fail
          with_reducible refine (HLN.out).mono ?_
          rintro e w5 ⟨rfl, hH5, _⟩
          have HLM := hH5.limit (HR.out _ hH5.below) 0 (by omega) 0 rfl
          rw [fit_zero] at HLM
          have HLM := Lib.hid HLM
          clear HLN hH4 hH5
          go_wp2_with fail
          with_reducible refine (HLM.out).mono ?_
          rintro e w6 ⟨rfl, hH6⟩
          have HF1 := Lib.hid (first_any w6 (HR.out _ hH6.below))
          clear HLM
          go_wp2_with fail
          with_reducible refine (HF1.out).mono ?_
          rintro e w7 ⟨rfl, hb7⟩
          have hH7 := hH6.quiet hb7
          have HL1 := Lib.hid (hH7.len (HR.out _ hH7.below))
          clear HF1 hb7 hH6
          go_wp2_with fail
          with_reducible refine (HL1.out).mono ?_
          rintro e w8 ⟨rfl, hH8, _⟩
          have HS1 := Lib.hid (hH8.size (HR.out _ hH8.below))
          clear HL1 hH7
          have hle : (L.length : Int) ≤ (i : Int) := by omega
          go_wp2_with fail
          with_reducible refine (HS1.out).mono ?_
          rintro e w10 ⟨rfl, hHZ, _⟩
          have hZ := hHZ.below
          clear HS1 hH8 hHZ
          rw [show tot [] = 0 from rfl]
          go_wp2_with fail
          go_ret
          exact ⟨rfl, hZ⟩
theorem walk (A : Option Addr) (l : List Opn) (c : Nat) (w : World) (hR : Rdy w) (hA : AtO w w.heap.size A l) (hok : ∀ q ∈ l, q.fit) :
    Calls Try.prog 5 #[.slice A l.length c] w (Yes w) := by
  have hfit : ∀ q ∈ l, q.fld.fit := fun q hq => by
    have := (hok q hq).2.2
    unfold maxLen at this
    exact ⟨by omega, by omega⟩
  cases hf : few7 l with
  | false => exact walk_not A l _ c w hR hA rfl hfit hf
  | true => exact walk_few A l _ c w hR hA rfl hf
end dynFinds
end Go.Proofs.Ytjohchedckmadaa
