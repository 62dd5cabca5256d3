/- Contracts of the document's own table: Add, Limit, Get, Find. -/
import Derived.Test.YtiandidencnlcaaDoorDRef
import Derived.Test.YtiandidencnlcaaDoorDGetL
import Derived.Test.YtiandidencnlcaaDoorPGetD
namespace Go.Proofs.YtiandidencnlcaaDoor
open Go.RowKit

theorem TPost.refl {S : Nat → Prop} {w : World} {p m : Nat} {l : List Fld} (h : RT w S p m l) : TPost S w p m l w := ⟨S, h, fun _ hx => .inl hx, Keeps.refl _ _⟩
theorem TPost.then {S S1 : Nat → Prop} {w w1 w2 : World} {p m2 : Nat} {l2 : List Fld} (hS : ∀ x, S1 x → S x ∨ w.heap.size ≤ x) (hK : Keeps S w w1) (h : TPost S1 w1 p m2 l2 w2) : TPost S w p m2 l2 w2 := by
  obtain ⟨S2, hT, hS2, hK2⟩ := h
  refine ⟨S2, hT, fun x hx => ?_, hK.trans hK2 (fun x hx hlt => ?_)⟩
  · rcases hS2 x hx with h1 | h1
    · exact hS x h1
    · exact .inr (Nat.le_trans hK.size h1)
  · rcases hS x hx with h1 | h1
    · exact h1
    · omega
set_option maxRecDepth 100000 in
set_option maxHeartbeats 8000000 in
theorem radd_any (w : World) (S : Nat → Prop) (p m : Nat) (l : List Fld) (f : Fld) (h : RT w S p m l) (hm : tot l ≤ 46400) (hf : fsize f ≤ 46400) :
    Calls Tryd.prog 57 #[.pointer (some ⟨p, 0, none⟩), .agg #[.string f.name, .string f.value, .bool f.never]] w fun e w' => e = .returned (.tuple #[]) ∧ TPost S w p m (addL m f l) w' := by
  obtain ⟨⟨A, c, hh, hat, hA0, hnc, hAS⟩, hSp, hlow, hsm⟩ := id h
  have hpl : p < w.heap.size := hlow p hSp
  obtain ⟨n, hn⟩ : ∃ n, n = l.length := ⟨_, rfl⟩
  have hln := tot_pos l
  rw [← hn] at hh hnc hln
  obtain ⟨g, hg⟩ : ∃ g, g = w.heap.size := ⟨_, rfl⟩
  obtain ⟨F1, F2, F3⟩ := f
  simp only []
  have hb1 : Below w.heap.size w (w.alloc (.cells #[.string F1, .string F2, .bool false] 52)) := (Below.refl _ _).alloc (Nat.le_refl _) _
  have hgh : (w.alloc (.cells #[.string F1, .string F2, .bool false] 52)).heap[w.heap.size]? = some (.cells #[.string F1, .string F2, .bool false] 52 (0, 0)) := heap_alloc_new w _
  obtain ⟨w1, hw1⟩ : ∃ w1, w1 = w.alloc (.cells #[.string F1, .string F2, .bool false] 52) := ⟨_, rfl⟩
  rw [← hw1] at hb1 hgh
  rw [← hg] at hgh
  have g0 : w1.cell? ⟨g, 0, none⟩ = some (.string F1) := cell_of_row _ g 0 _ 52 _ hgh
  have g1 : w1.cell? ⟨g, 1, none⟩ = some (.string F2) := cell_of_row _ g 1 _ 52 _ hgh
  have g2 : w1.cell? ⟨g, 2, none⟩ = some (.bool false) := cell_of_row _ g 2 _ 52 _ hgh
  have y1 : w1.cell? ⟨p, 1, none⟩ = some (.slice A n c) := (hb1.cell (p := ⟨p, 1, none⟩) hpl).trans (cell_of_row _ p 1 _ 70 _ hh)
  have fz : w1.frozen? ⟨p, 1, none⟩ = false := (hb1.frozen (p := ⟨p, 1, none⟩) hpl).trans (frozen_of_row w p 1 _ 70 hh)
  have hp1 : p < w1.heap.size := Nat.lt_of_lt_of_le hpl hb1.size
  have hgl : g < w1.heap.size := World.block_lt_of_cell? w1 _ g0
  have hP1 : TPost S w p m l w1 := (TPost.refl h).quiet hb1
  have hat1 : AtF w1 w1.heap.size A l := hat.up hb1
  have HB1 := Lib.hid hb1
  have HP1 := Lib.hid hP1
  have HL := Lib.hid hn
  have hsz1 : w.heap.size ≤ w1.heap.size := hb1.size
  have htn : n ≤ 1450 := by omega
  go_enter Tryd.func57, Tryd.ntmps57
  go_wp2
  rw [← hw1, ← hg]
  have hbd : Below w1.heap.size w1 (w1.alloc (.cells #[.string F1, .string F2, .bool false] 52)).drew := ((Below.refl _ _).alloc (Nat.le_refl _) _).drew
  have HOWN : Hid ((w1.alloc (.cells #[.string F1, .string F2, .bool false] 52)).drew.ownsRow w1.heap.size 52 3 (.slice (some ⟨w1.heap.size, 0, none⟩) 1 1) 1 (cF [⟨F1, F2, false⟩])) := Lib.hid ⟨rfl, .inr ⟨w1.heap.size, 1, _, rfl, Nat.le_refl _, heap_alloc_new w1 _, Nat.le_refl _, by decide, rfl, rfl⟩⟩
  have HAT1 : Hid (AtF (w1.alloc (.cells #[.string F1, .string F2, .bool false] 52)).drew (w1.alloc (.cells #[.string F1, .string F2, .bool false] 52)).drew.heap.size A l) := Lib.hid (hat1.up hbd)
  have hl2 : 1 + n ≤ 1000000 := by omega
  have HSZ : Hid (w1.heap.size ≤ (w1.alloc (.cells #[.string F1, .string F2, .bool false] 52)).drew.heap.size) := Lib.hid hbd.size
  have ya : (w1.alloc (.cells #[.string F1, .string F2, .bool false] 52)).cell? ⟨p, 1, none⟩ = some (.slice A n c) := (hbd.cell (p := ⟨p, 1, none⟩) hp1).trans y1
  have HKA : Hid (∀ w9, (w1.alloc (.cells #[.string F1, .string F2, .bool false] 52)).drew.grownBy w9 (Value.ownBlock (.slice (some ⟨w1.heap.size, 0, none⟩) 1 1)) → w9.cell? ⟨p, 1, none⟩ = some (.slice A n c) ∧ w9.frozen? ⟨p, 1, none⟩ = false ∧ Below w1.heap.size w1 w9) := Lib.hid (fun w9 hg => by
    have hb9 : Below w1.heap.size w1 w9 := hbd.grown hg hbd.size (fun k hk => by simp [Value.ownBlock] at hk; omega)
    exact ⟨(hb9.cell (p := ⟨p, 1, none⟩) hp1).trans y1, (hb9.frozen (p := ⟨p, 1, none⟩) hp1).trans fz, hb9⟩)
  have HG := Lib.hid hg
  clear hw1 hgh hh hat hat1 hP1 h hAS hlow hg hn
  go_wp2
  go_region_law (refine step_appF (by rfl) (.tmp 7) (.tmp 11) (by rfl) w1.heap.size (.slice (some ⟨w1.heap.size, 0, none⟩) 1 1) 1 [⟨F1, F2, false⟩] (by rfl) HOWN.out A l n c (by rfl) HL.out.symm hA0 _ HAT1.out hl2 HSZ.out ?_; intro v5 w9 hown5 hg5; obtain ⟨ck9, fz9, hb9⟩ := HKA.out w9 hg5; obtain ⟨A5, c5, rfl, hc5, hA5⟩ := rowF_shape hown5)
  all_goals
    have hnew : TPost S w p m (kept ⟨F1, F2, F3⟩ :: l) (w9.setCell ⟨p, 1, none⟩ (.slice A5 (1 + n) c5)) := HP1.out.put hsz1 (Nat.le_refl _) hb9 (by rw [List.length_cons, ← HL.out]; omega) hown5 (by rw [tot, kept_size]; omega)
    obtain ⟨S2, hT2, hS2, hK2⟩ := hnew
    have HCUT := Lib.hid (rcut_any _ S2 p m _ hT2)
    have HS2 := Lib.hid hS2
    have HK2 := Lib.hid hK2
    clear hT2 hS2 hK2
    go_wp2_with fail
    with_reducible refine (HCUT.out).mono ?_
    rintro e w10 ⟨rfl, hP⟩
    have hfin : TPost S w p m (addL m ⟨F1, F2, F3⟩ l) w10 := TPost.then HS2.out HK2.out hP
    go_wp2
    go_end0
    exact ⟨rfl, hfin⟩
/-- Another limit is laid into the table. -/
theorem TPost.most {S : Nat → Prop} {w : World} {p m k : Nat} {l : List Fld} (h : RT w S p m l) : TPost S w p k l (w.setCell ⟨p, 0, none⟩ (.int .i64 (k : Int))) := by
  obtain ⟨⟨A, c, hh, hat, hA0, hnc, hAS⟩, hSp, hlow, hsm⟩ := h
  have hsz : (w.setCell ⟨p, 0, none⟩ (.int .i64 (k : Int))).heap.size = w.heap.size := by simp [World.setCell]
  refine ⟨S, ⟨⟨A, c, ?_, fun hl => ?_, hA0, hnc, hAS⟩, hSp, fun x hx => by rw [hsz]; exact hlow x hx, hsm⟩, fun _ hx => .inl hx, (Keeps.refl S w).setCell (p := ⟨p, 0, none⟩) hSp _⟩
  · have := heap_setCell_same w p 0 _ 70 (.int .i64 (k : Int)) hh
    simpa using this
  · obtain ⟨b, o, rfl, hbl, hc⟩ := hat hl
    have hbp := (hAS b o none rfl).2
    refine ⟨b, o, rfl, by rw [hsz]; exact hbl, fun i hi => ?_⟩
    obtain ⟨c0, c1, c2⟩ := hc i hi
    refine ⟨?_, ?_, ?_⟩
    · rw [World.cell?_setCell_other w ⟨p, 0, none⟩ ⟨b, o + i * 3, none⟩ _ (by rintro e; injection e with e _; exact hbp e.symm)]; exact c0
    · rw [World.cell?_setCell_other w ⟨p, 0, none⟩ ⟨b, o + i * 3 + 1, none⟩ _ (by rintro e; injection e with e _; exact hbp e.symm)]; exact c1
    · rw [World.cell?_setCell_other w ⟨p, 0, none⟩ ⟨b, o + i * 3 + 2, none⟩ _ (by rintro e; injection e with e _; exact hbp e.symm)]; exact c2
set_option maxRecDepth 100000 in
set_option maxHeartbeats 4000000 in
theorem rlimit_ok (w : World) (S : Nat → Prop) (p m k : Nat) (l : List Fld) (h : RT w S p m l) (hk : k ≤ 4096) :
    Calls Tryd.prog 32 #[.pointer (some ⟨p, 0, none⟩), .int .i64 (k : Int)] w fun e w' => e = .returned (.int .i64 0) ∧ TPost S w p k (fitL k l) w' := by
  have hP := TPost.most (k := k) h
  obtain ⟨⟨A, c, hh, _⟩, _⟩ := h
  have y0 : w.cell? ⟨p, 0, none⟩ = some (.int .i64 (m : Int)) := cell_of_row _ p 0 _ 70 _ hh
  have fz : w.frozen? ⟨p, 0, none⟩ = false := frozen_of_row w p 0 _ 70 hh
  obtain ⟨S2, hT2, hS2, hK2⟩ := hP
  have HCUT := Lib.hid (rcut_any _ S2 p k _ hT2)
  have HS2 := Lib.hid hS2
  have HK2 := Lib.hid hK2
  have h1 : ¬ (k : Int) < 0 := by omega
  have h2 : ¬ (4096 : Int) < (k : Int) := by omega
  clear hT2 hS2 hK2 hh
  go_enter Tryd.func32, Tryd.ntmps32
  go_wp2_with fail
  with_reducible refine (HCUT.out).mono ?_
  rintro e w10 ⟨rfl, hP⟩
  have hfin : TPost S w p k (fitL k l) w10 := TPost.then HS2.out HK2.out hP
  clear y0 fz
  go_wp2
  go_ret
  exact ⟨rfl, hfin⟩
set_option maxRecDepth 100000 in
theorem rlimit_no (w : World) (p : Nat) (k : Int) (hk : k < 0 ∨ 4096 < k) :
    Calls Tryd.prog 32 #[.pointer (some ⟨p, 0, none⟩), .int .i64 k] w fun e w' => e = .returned (.int .i64 1) ∧ w' = w := by
  by_cases h1 : k < 0
  · go_enter Tryd.func32, Tryd.ntmps32
    go_wp2
    go_ret
    exact ⟨rfl, rfl⟩
  · have h2 : 4096 < k := by omega
    go_enter Tryd.func32, Tryd.ntmps32
    go_wp2
    go_ret
    exact ⟨rfl, rfl⟩
end Go.Proofs.YtiandidencnlcaaDoor
/- Contract of Find of the document's table. -/
namespace Go.Proofs.YtiandidencnlcaaDoor
open Go.RowKit

set_option maxRecDepth 100000 in
set_option maxHeartbeats 4000000 in
theorem rtfind_any (w : World) (S : Nat → Prop) (p m : Nat) (l : List Fld) (nm vl : ByteArray) (h : RT w S p m l) :
    Calls Tryd.prog 55 #[.pointer (some ⟨p, 0, none⟩), .string nm, .string vl] w fun e w' => e = .returned (.tuple #[.int .i64 (((fndL nm.toList vl.toList l 0).1 : Nat) : Int), .int .i64 (((fndL nm.toList vl.toList l 0).2 : Nat) : Int)]) ∧ w' = w := by
  obtain ⟨⟨A, c, hh, hat, hA0, hnc, hAS⟩, hSp, hlow, hsm⟩ := h
  obtain ⟨n, hn⟩ : ∃ n, n = l.length := ⟨_, rfl⟩
  rw [← hn] at hh
  have hn2 : n ≤ 2900 := by have := tot_pos l; omega
  have y1 : w.cell? ⟨p, 1, none⟩ = some (.slice A n c) := cell_of_row _ p 1 _ 70 _ hh
  have HN := Lib.hid hn
  have HAT := Lib.hid hat
  obtain ⟨D, hD⟩ : ∃ D, D = fndL nm.toList vl.toList l 0 := ⟨_, rfl⟩
  rw [← hD]
  have HD := Lib.hid hD
  clear hn hat hD hh
  go_enter Tryd.func55, Tryd.ntmps55
  go_wp2
  go_loop [8, 9, 10] (fun b o i => ∃ j : Nat, j ≤ n ∧ i = .int .i64 (j : Int) ∧ b = .int .i64 (((fndL nm.toList vl.toList (l.drop j) j).1 : Nat) : Int) ∧ o = .int .i64 (((fndL nm.toList vl.toList (l.drop j) j).2 : Nat) : Int)) (fun _ _ i => (intOf i).toNat)
  case atStart =>
    refine ⟨n, Nat.le_refl _, rfl, ?_, ?_⟩
    · rw [List.drop_of_length_le (by have := HN.out; omega)]; rfl
    · rw [List.drop_of_length_le (by have := HN.out; omega)]; rfl
  case round =>
    obtain ⟨j, hj, rfl, rfl, rfl⟩ := hrel
    by_cases h0 : 0 < j
    · obtain ⟨I, hI⟩ : ∃ I, I = j - 1 := ⟨_, rfl⟩
      have hIl : I < l.length := by have := HN.out; omega
      obtain ⟨b, o, rfl, hbl, hc⟩ := HAT.out.pos (by omega)
      obtain ⟨c0, c1, _⟩ := hc I hIl
      have HX : Hid (fndL nm.toList vl.toList (l.drop I) I = if l[I].name.toList == nm.toList then (if l[I].value.toList == vl.toList then (I + 1, I + 1) else ((fndL nm.toList vl.toList (l.drop j) j).1, I + 1)) else fndL nm.toList vl.toList (l.drop j) j) := Lib.hid (by
        rw [List.drop_eq_getElem_cons hIl, fndL, show I + 1 = j by omega])
      generalize fndL nm.toList vl.toList (l.drop j) j = R at HX
      obtain ⟨s1, s2⟩ := R
      generalize l[I].name = X at c0 HX
      generalize l[I].value = Y at c1 HX
      have ej : (j : Int) - 1 = (I : Int) := by omega
      have ewi : IntKind.i64.wrap (I : Int) = (I : Int) := IntWalk.i64_in _ (by omega)
      have In : (I : Int) < (n : Int) := by omega
      have j0 : (0 : Int) < (j : Int) := by omega
      have HIJ : Hid (j = I + 1) := Lib.hid (by omega)
      clear hI hc hbl
      cases hN : X.toList == nm.toList with
      | false =>
        have HN2 : Hid (fndL nm.toList vl.toList (l.drop I) I = (s1, s2)) := Lib.hid (by rw [HX.out, hN]; rfl)
        go_wp2
        go_round
        case rel => exact ⟨I, by omega, by go_num, by rw [HN2.out], by rw [HN2.out]⟩
        case measure => simp [intOf]; omega
      | true =>
        cases hV : Y.toList == vl.toList with
        | false =>
          have HN2 : Hid (fndL nm.toList vl.toList (l.drop I) I = (s1, I + 1)) := Lib.hid (by rw [HX.out, hN, hV]; rfl)
          go_wp2
          go_round
          case rel => exact ⟨I, by omega, by go_num, by rw [HN2.out], by rw [HN2.out, HIJ.out]⟩
          case measure => simp [intOf]; omega
        | true =>
          have HN2 : Hid (fndL nm.toList vl.toList (l.drop I) I = (I + 1, I + 1)) := Lib.hid (by rw [HX.out, hN, hV]; rfl)
          go_wp2
          go_round
          case rel => exact ⟨I, by omega, by go_num, by rw [HN2.out, HIJ.out], by rw [HN2.out, HIJ.out]⟩
          case measure => simp [intOf]; omega
    · obtain rfl : j = 0 := by omega
      have HE : Hid (fndL nm.toList vl.toList (l.drop 0) 0 = D) := Lib.hid (by rw [HD.out]; rfl)
      rw [HE.out]
      obtain ⟨d1, d2⟩ := D
      go_wp2
      go_ret2
      exact ⟨rfl, rfl⟩
end Go.Proofs.YtiandidencnlcaaDoor
/- The landed Size. -/
namespace Go.Proofs.YtiandidencnlcaaDoor
open Go.RowKit
set_option maxRecDepth 100000 in
theorem size_s (f : Fld) (w : World) (hf : f.ok) : Calls Tryd.prog 61 #[.agg #[.string f.name, .string f.value, .bool f.never]] w (NumPost w (fsize f)) := by
  obtain ⟨nm, vl, nv⟩ := f
  obtain ⟨h1, h2⟩ := hf
  simp only [] at h1 h2
  unfold fsize
  simp only []
  go_enter Tryd.func61, Tryd.ntmps61
  go_wp2
  go_ret
  exact ⟨rfl, (Below.refl _ _).alloc (Nat.le_refl _) _⟩
theorem ssize_f (f : Fld) (w : World) (_ : Rdy w) (hf : f.ok) : Calls Tryd.prog 61 #[.agg #[.string f.name, .string f.value, .bool f.never]] w (NumPost w (fsize f)) := size_s f w hf
end Go.Proofs.YtiandidencnlcaaDoor
/- The landed Total. -/
namespace Go.Proofs.YtiandidencnlcaaDoor
open Go.RowKit
set_option maxRecDepth 100000 in
set_option maxHeartbeats 2000000 in
theorem total_s (A : Option Addr) (l : List Fld) (n c : Nat) (w : World) (hA : AtF w w.heap.size A l) (hl : l.length = n) (ht : tot l ≤ 1000000) : Calls Tryd.prog 43 #[.slice A n c] w (NumPost w (tot l)) := by
  have HA := Lib.hid hA
  have HL := Lib.hid hl
  have HT := Lib.hid ht
  have hn : n ≤ 1000000 := by
    have : ∀ l : List Fld, l.length ≤ tot l := fun l => by
      induction l with
      | nil => simp
      | cons x r ih => rw [tot, List.length_cons]; unfold fsize; omega
    have := this l
    omega
  clear hA hl ht
  go_enter Tryd.func43, Tryd.ntmps43
  go_wp2
  go_loopw [3, 8] (fun s i wr => TtR w l s i wr) (fun _ i _ => n - (intOf i).toNat)
  case atStart => exact ⟨0, Nat.zero_le _, rfl, rfl, Below.refl _ _⟩
  case round =>
    obtain ⟨k, hk, rfl, rfl, hbw⟩ := hrel
    by_cases hlt : k < n
    · have hkl : k < l.length := by have := HL.out; omega
      obtain ⟨b, o, rfl, hb, hc⟩ := HA.out.pos (by omega)
      obtain ⟨f, hf⟩ : ∃ f, f = l[k] := ⟨_, rfl⟩
      obtain ⟨c0, c1, c2⟩ := hc k hkl
      rw [← hf] at c0 c1 c2
      have d0 : wr.cell? ⟨b, o + k * 3, none⟩ = some (.string f.name) := (hbw.cell (p := ⟨b, o + k * 3, none⟩) hb).trans c0
      have d1 : wr.cell? ⟨b, o + k * 3 + 1, none⟩ = some (.string f.value) := (hbw.cell (p := ⟨b, o + k * 3 + 1, none⟩) hb).trans c1
      have d2 : wr.cell? ⟨b, o + k * 3 + 2, none⟩ = some (.bool f.never) := (hbw.cell (p := ⟨b, o + k * 3 + 2, none⟩) hb).trans c2
      have HNX : Hid (tot (l.take (k + 1)) = tot (l.take k) + fsize f) := Lib.hid (by rw [tot_next l k hkl, hf])
      have HOK : Hid f.ok := Lib.hid (ok_of (by rw [hf]; exact List.getElem_mem _) HT.out)
      have hle := tot_le l (k + 1)
      rw [HNX.out] at hle
      have hle2 : tot (l.take k) + fsize f ≤ 1000000 := by have := HT.out; omega
      generalize tot (l.take k) = s at hle2 HNX
      generalize hfs : fsize f = y at hle2 HNX
      have HFS := Lib.hid hfs
      have ki : (k : Int) < (n : Int) := by omega
      have HBW := Lib.hid hbw
      clear hc hkl hf c0 c1 c2 hle hfs hbw
      go_wp2_with fail
      with_reducible refine (size_s f _ HOK.out).mono ?_
      rw [HFS.out]
      rintro e w2 ⟨rfl, hb2⟩
      have hb1 := HBW.out.alloc HBW.out.size (.cells #[.string f.name, .string f.value, .bool f.never] 52)
      have HB3 := Lib.hid (hb1.trans (hb2.mono hb1.size))
      clear d0 d1 d2 hb1 hb2
      go_wp2
      go_roundw
      case rel => exact ⟨k + 1, by have := HL.out; omega, by go_num, by rw [HNX.out]; go_num, HB3.out⟩
      case measure => simp [intOf]; omega
    · obtain rfl : k = n := by have := HL.out; omega
      have e : l.take k = l := List.take_of_length_le (by have := HL.out; omega)
      rw [e]
      go_wp2
      go_ret
      exact ⟨rfl, hbw⟩
theorem stotal_f (A : Option Addr) (l : List Fld) (n c : Nat) (w : World) (_ : Rdy w) (hA : AtF w w.heap.size A l) (hl : l.length = n) (_ : A = none → c = 0) (_ : n ≤ c) (ht : tot l ≤ 1000000) : Calls Tryd.prog 43 #[.slice A n c] w (NumPost w (tot l)) := total_s A l n c w hA hl ht
end Go.Proofs.YtiandidencnlcaaDoor
