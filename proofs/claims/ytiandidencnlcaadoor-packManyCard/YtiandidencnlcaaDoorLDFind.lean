/- The landed table: New, isMost, Len, Most, Size. -/
import Derived.Test.YtiandidencnlcaaDoorQLLit
import Derived.Test.YtiandidencnlcaaDoorLSTotal
import Derived.Test.YtiandidencnlcaaDoorDGetL
namespace Go.Proofs.YtiandidencnlcaaDoor
open Go.RowKit

set_option maxRecDepth 100000 in
theorem isMost_ok (m : Nat) (w : World) (hm : m ≤ 4096) : Calls Tryd.prog 46 #[.int .i64 (m : Int)] w fun e w' => e = .returned (.bool true) ∧ w' = w := by
  have h1 : (0 : Int) ≤ (m : Int) := by omega
  have h2 : (m : Int) ≤ 4096 := by omega
  go_enter Tryd.func46, Tryd.ntmps46
  go_wp2
  go_ret
  exact ⟨rfl, rfl⟩
set_option maxRecDepth 100000 in
theorem isMost_no (m : Int) (w : World) (hm : m < 0 ∨ 4096 < m) : Calls Tryd.prog 46 #[.int .i64 m] w fun e w' => e = .returned (.bool false) ∧ w' = w := by
  by_cases h0 : m < 0
  · have h1 : ¬ (0 : Int) ≤ m := by omega
    go_enter Tryd.func46, Tryd.ntmps46
    go_wp2
    go_ret
    exact ⟨rfl, rfl⟩
  · have h1 : (0 : Int) ≤ m := by omega
    have h2 : ¬ m ≤ 4096 := by omega
    go_enter Tryd.func46, Tryd.ntmps46
    go_wp2
    go_ret
    exact ⟨rfl, rfl⟩
set_option maxRecDepth 100000 in
theorem dnew_ok (m : Nat) (w : World) (_ : Rdy w) (hm : m ≤ 4096) : Calls Tryd.prog 28 #[.int .i64 (m : Int)] w fun e w' => ∃ p S, e = .returned (.tuple #[.pointer (some ⟨p, 0, none⟩), .int .i64 0]) ∧ DT w' S p m [] ∧ (∀ x, S x → w.heap.size ≤ x) ∧ Below w.heap.size w w' := by
  go_enter Tryd.func28, Tryd.ntmps28
  go_wp2_with fail
  with_reducible refine (isMost_ok m w hm).mono ?_
  rintro e w1 ⟨rfl, rfl⟩
  go_wp2
  go_ret2
  refine ⟨w1.heap.size, fun x => x = w1.heap.size ∨ (Value.slice none 0 0).ownBlock = some x, rfl, ⟨⟨.slice none 0 0, heap_alloc_new w1 _, World.ownsRow_nil _ _ _ _, fun k hk => by simp [Value.ownBlock] at hk, fun x => Iff.rfl, by simp [tot], hm⟩, by simp [tot]⟩, fun x hx => ?_, (Below.refl _ _).alloc (Nat.le_refl _) _⟩
  rcases hx with rfl | hx
  · exact Nat.le_refl _
  · simp [Value.ownBlock] at hx
set_option maxRecDepth 100000 in
theorem dnew_no (m : Int) (w : World) (_ : Rdy w) (hm : m < 0 ∨ 4096 < m) : Calls Tryd.prog 28 #[.int .i64 m] w fun e w' => e = .returned (.tuple #[.pointer none, .int .i64 1]) ∧ Below w.heap.size w w' := by
  go_enter Tryd.func28, Tryd.ntmps28
  go_wp2_with fail
  with_reducible refine (isMost_no m w hm).mono ?_
  rintro e w1 ⟨rfl, rfl⟩
  go_wp2
  go_ret2
  exact ⟨rfl, Below.refl _ _⟩
end Go.Proofs.YtiandidencnlcaaDoor
/- The landed table: Len, Most. -/
namespace Go.Proofs.YtiandidencnlcaaDoor
open Go.RowKit
set_option maxRecDepth 100000 in
theorem dlen_f (w : World) (S : Nat → Prop) (p m : Nat) (l : List Fld) (_ : Rdy w) (h : DT w S p m l) : Calls Tryd.prog 23 #[.pointer (some ⟨p, 0, none⟩)] w (NumPost w l.length) := by
  obtain ⟨⟨v, hh, ho, _⟩, _⟩ := h
  obtain ⟨A, c, rfl, _⟩ := rowF_shape ho
  have x0 : w.cell? ⟨p, 0, none⟩ = some (.slice A l.length c) := cell_of_row _ p 0 _ 77 _ hh
  clear hh ho
  go_enter Tryd.func23, Tryd.ntmps23
  go_wp2
  go_ret
  exact ⟨rfl, Below.refl _ _⟩
set_option maxRecDepth 100000 in
theorem dmost_f (w : World) (S : Nat → Prop) (p m : Nat) (l : List Fld) (_ : Rdy w) (h : DT w S p m l) : Calls Tryd.prog 24 #[.pointer (some ⟨p, 0, none⟩)] w (NumPost w m) := by
  obtain ⟨⟨v, hh, _⟩, _⟩ := h
  have x0 : w.cell? ⟨p, 1, none⟩ = some (.int .i64 (m : Int)) := cell_of_row _ p 1 _ 77 _ hh
  clear hh
  go_enter Tryd.func24, Tryd.ntmps24
  go_wp2
  go_ret
  exact ⟨rfl, Below.refl _ _⟩
end Go.Proofs.YtiandidencnlcaaDoor
/- The landed table: Size. -/
namespace Go.Proofs.YtiandidencnlcaaDoor
open Go.RowKit
theorem tot_rev : ∀ l : List Fld, tot l.reverse = tot l
  | [] => rfl
  | f :: r => by rw [List.reverse_cons, tot_app, tot_rev r, tot, tot, tot]; omega
set_option maxRecDepth 100000 in
theorem dsize0 (w : World) (S : Nat → Prop) (p m : Nat) (l : List Fld) (h : DT0 w S p m l) : Calls Tryd.prog 25 #[.pointer (some ⟨p, 0, none⟩)] w (NumPost w (tot l)) := by
  obtain ⟨v, hh, ho, _, _, ht, _⟩ := h
  obtain ⟨A, c, rfl, _⟩ := rowF_shape ho
  have x0 : w.cell? ⟨p, 0, none⟩ = some (.slice A l.length c) := cell_of_row _ p 0 _ 77 _ hh
  have HT := Lib.hid (total_s A l.reverse l.length c w (AtF.of_own ho) (by simp) (by rw [tot_rev]; omega))
  rw [tot_rev] at HT
  clear hh ho
  go_enter Tryd.func25, Tryd.ntmps25
  go_wp2_with fail
  with_reducible refine (HT.out).mono ?_
  rintro e w2 ⟨rfl, hb2⟩
  go_wp2
  go_ret
  exact ⟨rfl, hb2⟩
theorem dsize_f (w : World) (S : Nat → Prop) (p m : Nat) (l : List Fld) (_ : Rdy w) (h : DT w S p m l) : Calls Tryd.prog 25 #[.pointer (some ⟨p, 0, none⟩)] w (NumPost w (tot l)) := dsize0 w S p m l h.1
end Go.Proofs.YtiandidencnlcaaDoor
/- The landed table: Get. -/
namespace Go.Proofs.YtiandidencnlcaaDoor
open Go.RowKit
theorem rev_at (l : List Fld) (j I n : Nat) (hn : n = l.length) (hj : j + I = n) (h1 : 1 ≤ j) (hI : I < l.reverse.length) : l.reverse[I] = l.getD (j - 1) ⟨⟨#[]⟩, ⟨#[]⟩, false⟩ := by
  rw [List.getElem_reverse, List.getD, List.getElem?_eq_getElem (by omega), Option.getD_some]
  congr 1
  omega
set_option maxRecDepth 100000 in
set_option maxHeartbeats 4000000 in
theorem dget_f (w : World) (S : Nat → Prop) (p m : Nat) (l : List Fld) (i : Int) (_ : Rdy w) (h : DT w S p m l) (hi : Rng i) :
    Calls Tryd.prog 26 #[.pointer (some ⟨p, 0, none⟩), .int .i64 i] w (FPost w (getL l i)) := by
  obtain ⟨⟨v, hh, ho, _, _, ht, _⟩, _⟩ := h
  have hpl := lt_of_heap hh
  obtain ⟨n, hn⟩ : ∃ n, n = l.length := ⟨_, rfl⟩
  rw [← hn] at ho
  obtain ⟨A, c, rfl, hnc, _⟩ := rowF_shape ho
  have hat := AtF.of_own ho
  have hb0 : Below w.heap.size w (w.alloc (.cells #[.string ⟨#[]⟩, .string ⟨#[]⟩, .bool false] 52)) := (Below.refl _ _).alloc (Nat.le_refl _) _
  have y1 : (w.alloc (.cells #[.string ⟨#[]⟩, .string ⟨#[]⟩, .bool false] 52)).cell? ⟨p, 0, none⟩ = some (.slice A n c) := (hb0.cell (p := ⟨p, 0, none⟩) hpl).trans (cell_of_row _ p 0 _ 77 _ hh)
  have hnn : n ≤ 128 := by have := tot_pos l; omega
  unfold Rng at hi
  by_cases h1 : i < 1
  · have HS : Hid (getL l i = (⟨⟨#[]⟩, ⟨#[]⟩, false⟩, false)) := Lib.hid (by rw [getL, if_neg (by omega)])
    clear hn hh hat ho
    go_enter Tryd.func26, Tryd.ntmps26
    go_wp2
    refine bodyPost_ret (v := .tuple #[.agg #[.string ⟨#[]⟩, .string ⟨#[]⟩, .bool false], .bool false]) (by simp [results, Tryd.results26, go_sem]) rfl ⟨?_, hb0⟩
    rw [HS.out]
  · by_cases h2 : (n : Int) < i
    · have HS : Hid (getL l i = (⟨⟨#[]⟩, ⟨#[]⟩, false⟩, false)) := Lib.hid (by rw [getL, if_neg (by omega)])
      clear hn hh hat ho
      go_enter Tryd.func26, Tryd.ntmps26
      go_wp2
      refine bodyPost_ret (v := .tuple #[.agg #[.string ⟨#[]⟩, .string ⟨#[]⟩, .bool false], .bool false]) (by simp [results, Tryd.results26, go_sem]) rfl ⟨?_, hb0⟩
      rw [HS.out]
    · obtain ⟨j, rfl⟩ : ∃ v : Nat, i = (v : Int) := ⟨i.toNat, by omega⟩
      obtain ⟨I, hI⟩ : ∃ I, I = n - j := ⟨_, rfl⟩
      have hIl : I < l.reverse.length := by rw [List.length_reverse]; omega
      obtain ⟨b, o, rfl, hbl, hc⟩ := hat.pos (by omega)
      obtain ⟨c0, c1, c2⟩ := hc I hIl
      have hx := rev_at l j I n hn (by omega) (by omega) hIl
      rw [hx] at c0 c1 c2
      obtain ⟨f, hf⟩ : ∃ f, f = l.getD (j - 1) ⟨⟨#[]⟩, ⟨#[]⟩, false⟩ := ⟨_, rfl⟩
      rw [← hf] at c0 c1 c2
      obtain ⟨X, Y, Z⟩ := f
      simp only [] at c0 c1 c2
      have HS : Hid (getL l (j : Int) = (⟨X, Y, Z⟩, true)) := Lib.hid (by rw [getL, if_pos (by omega), Int.toNat_natCast, hf])
      have d0 : (w.alloc (.cells #[.string ⟨#[]⟩, .string ⟨#[]⟩, .bool false] 52)).cell? ⟨b, o + I * 3, none⟩ = some (.string X) := (hb0.cell (p := ⟨b, o + I * 3, none⟩) hbl).trans c0
      have d1 : (w.alloc (.cells #[.string ⟨#[]⟩, .string ⟨#[]⟩, .bool false] 52)).cell? ⟨b, o + I * 3 + 1, none⟩ = some (.string Y) := (hb0.cell (p := ⟨b, o + I * 3 + 1, none⟩) hbl).trans c1
      have d2 : (w.alloc (.cells #[.string ⟨#[]⟩, .string ⟨#[]⟩, .bool false] 52)).cell? ⟨b, o + I * 3 + 2, none⟩ = some (.bool Z) := (hb0.cell (p := ⟨b, o + I * 3 + 2, none⟩) hbl).trans c2
      have eI : (n : Int) - (j : Int) = (I : Int) := by omega
      have In : (I : Int) < (n : Int) := by omega
      have ewi : IntKind.i64.wrap (I : Int) = (I : Int) := IntWalk.i64_in _ (by omega)
      clear hn hh hat hI hf hc c0 c1 c2 ho hx
      go_enter Tryd.func26, Tryd.ntmps26
      go_wp2
      have hbZ : Below w.heap.size w (w.alloc (.cells #[.string X, .string Y, .bool Z] 52)).drew := ((Below.refl _ _).alloc (Nat.le_refl _) _).drew
      go_region
      go_wp2
      refine bodyPost_ret (v := .tuple #[.agg #[.string X, .string Y, .bool Z], .bool true]) (by simp [results, Tryd.results26, go_sem]) rfl ⟨?_, hbZ⟩
      rw [HS.out]
end Go.Proofs.YtiandidencnlcaaDoor
/- The landed table: Find. -/
namespace Go.Proofs.YtiandidencnlcaaDoor
open Go.RowKit
def NPost (w : World) (s : Nat × Nat) (e : Ending) (w' : World) : Prop := e = .returned (.tuple #[.int .i64 ((s.1 : Nat) : Int), .int .i64 ((s.2 : Nat) : Int)]) ∧ Below w.heap.size w w'
/-- Behind k places: nd is the newest with the name so far (0: none), the rest is still to be looked at. -/
def LFdR (w : World) (D : Nat × Nat) (N V : List UInt8) (l : List Fld) (nd i : Value) (wr : World) : Prop :=
  ∃ k d : Nat, k ≤ l.length ∧ i = .int .i64 ((k + 1 : Nat) : Int) ∧ nd = .int .i64 (d : Int) ∧ D = (if d = 0 then fndL N V (l.drop k) k else ((fndL N V (l.drop k) k).1, d)) ∧ Below w.heap.size w wr
theorem rev_get (l : List Fld) (k I : Nat) (hk : k + I + 1 = l.length) (hI : I < l.reverse.length) (hk2 : k < l.length) : l.reverse[I] = l[k] := by
  rw [List.getElem_reverse]
  congr 1
  omega
set_option maxRecDepth 100000 in
set_option maxHeartbeats 8000000 in
theorem dfind_f (w : World) (S : Nat → Prop) (p m : Nat) (l : List Fld) (nm vl : ByteArray) (_ : Rdy w) (h : DT w S p m l) (_ : nm.size ≤ 140737488355328) (_ : vl.size ≤ 140737488355328) :
    Calls Tryd.prog 66 #[.pointer (some ⟨p, 0, none⟩), .string nm, .string vl] w (NPost w (fndL nm.toList vl.toList l 0)) := by
  obtain ⟨⟨v, hh, ho, hx1, hx2, ht, hx3⟩, hx4⟩ := h
  have hpl := lt_of_heap hh
  obtain ⟨n, hn⟩ : ∃ n, n = l.length := ⟨_, rfl⟩
  rw [← hn] at ho
  obtain ⟨A, c, rfl, hnc, hx5⟩ := rowF_shape ho
  have hat := AtF.of_own ho
  have hnn : n ≤ 128 := by have := tot_pos l; omega
  have HC : Hid (w.cell? ⟨p, 0, none⟩ = some (.slice A n c)) := Lib.hid (cell_of_row _ p 0 _ 77 _ hh)
  have HN := Lib.hid hn
  have HAT := Lib.hid hat
  obtain ⟨D, hD⟩ : ∃ D, D = fndL nm.toList vl.toList l 0 := ⟨_, rfl⟩
  rw [← hD]
  have HD := Lib.hid hD
  have HP := Lib.hid hpl
  clear hn hat hD hh ho hx1 hx2 hx3 hx4 hx5 ht hpl
  go_enter Tryd.func66, Tryd.ntmps66
  go_wp2
  go_loopw [8, 9] (fun nd i wr => LFdR w D nm.toList vl.toList l nd i wr) (fun _ i _ => n + 2 - (intOf i).toNat)
  case atStart => exact ⟨0, 0, Nat.zero_le _, rfl, rfl, by rw [HD.out]; rfl, Below.refl _ _⟩
  case round =>
    obtain ⟨k, d, hk, rfl, rfl, hDk, hbw⟩ := hrel
    have HDk := Lib.hid hDk
    have y1 : wr.cell? ⟨p, 0, none⟩ = some (.slice A n c) := (hbw.cell (p := ⟨p, 0, none⟩) HP.out).trans HC.out
    have HBW := Lib.hid hbw
    clear hDk hbw
    by_cases hlt : k < n
    · obtain ⟨I, hI⟩ : ∃ I, I = n - (k + 1) := ⟨_, rfl⟩
      have hkl : k < l.length := by have := HN.out; omega
      have hIl : I < l.reverse.length := by rw [List.length_reverse]; have := HN.out; omega
      obtain ⟨b, o, rfl, hbl, hc⟩ := HAT.out.pos (by omega)
      obtain ⟨c0, c1, c2⟩ := hc I hIl
      rw [rev_get l k I (by have := HN.out; omega) hIl hkl] at c0 c1 c2
      have HX : Hid (fndL nm.toList vl.toList (l.drop k) k = if l[k].name.toList == nm.toList then (if l[k].value.toList == vl.toList then (k + 1, k + 1) else ((fndL nm.toList vl.toList (l.drop (k + 1)) (k + 1)).1, k + 1)) else fndL nm.toList vl.toList (l.drop (k + 1)) (k + 1)) := Lib.hid (by
        rw [List.drop_eq_getElem_cons hkl, fndL])
      have d0 : wr.cell? ⟨b, o + I * 3, none⟩ = some (.string l[k].name) := (HBW.out.cell (p := ⟨b, o + I * 3, none⟩) hbl).trans c0
      have d1 : wr.cell? ⟨b, o + I * 3 + 1, none⟩ = some (.string l[k].value) := (HBW.out.cell (p := ⟨b, o + I * 3 + 1, none⟩) hbl).trans c1
      have d2 : wr.cell? ⟨b, o + I * 3 + 2, none⟩ = some (.bool l[k].never) := (HBW.out.cell (p := ⟨b, o + I * 3 + 2, none⟩) hbl).trans c2
      generalize fndL nm.toList vl.toList (l.drop k) k = R0 at HDk HX
      have HR : Hid (∀ D' : Nat × Nat, D' = fndL nm.toList vl.toList (l.drop (k + 1)) (k + 1) → D' = fndL nm.toList vl.toList (l.drop (k + 1)) (k + 1)) := Lib.hid (fun _ h => h)
      obtain ⟨R, hR⟩ : ∃ R, R = fndL nm.toList vl.toList (l.drop (k + 1)) (k + 1) := ⟨_, rfl⟩
      rw [← hR] at HX
      have HRR := Lib.hid hR
      clear HR hR
      generalize l[k].name = X at d0 HX
      generalize l[k].value = Y at d1 HX
      generalize l[k].never = Z at d2
      obtain ⟨j, hj⟩ : ∃ j, j = k + 1 := ⟨_, rfl⟩
      rw [← hj] at HX ⊢
      have eI : (n : Int) - (j : Int) = (I : Int) := by omega
      have In : (I : Int) < (n : Int) := by omega
      have ewi : IntKind.i64.wrap (I : Int) = (I : Int) := IntWalk.i64_in _ (by omega)
      have jn : (j : Int) ≤ (n : Int) := by omega
      have hbZ : Below w.heap.size w (wr.alloc (.cells #[.string X, .string Y, .bool Z] 52)).drew := (HBW.out.alloc HBW.out.size _).drew
      have HBZ := Lib.hid hbZ
      have HJ : Hid (j = k + 1) := Lib.hid hj
      have HI : Hid (I = n - (k + 1)) := Lib.hid hI
      have hj9 : j ≤ 128 := by omega
      have hKN := Lib.hid hlt
      clear hI hc hbl c0 c1 c2 hbZ hj hkl hIl hlt
      have hba : Below wr.heap.size wr (wr.alloc (.cells #[.string ⟨#[]⟩, .string ⟨#[]⟩, .bool false] 52)) := (Below.refl _ _).alloc (Nat.le_refl _) _
      have ya : (wr.alloc (.cells #[.string ⟨#[]⟩, .string ⟨#[]⟩, .bool false] 52)).cell? ⟨p, 0, none⟩ = some (.slice (some ⟨b, o, none⟩) n c) := (hba.cell (p := ⟨p, 0, none⟩) (World.block_lt_of_cell? wr _ y1)).trans y1
      have e0 : (wr.alloc (.cells #[.string ⟨#[]⟩, .string ⟨#[]⟩, .bool false] 52)).cell? ⟨b, o + I * 3, none⟩ = some (.string X) := (hba.cell (p := ⟨b, o + I * 3, none⟩) (World.block_lt_of_cell? wr _ d0)).trans d0
      have e1 : (wr.alloc (.cells #[.string ⟨#[]⟩, .string ⟨#[]⟩, .bool false] 52)).cell? ⟨b, o + I * 3 + 1, none⟩ = some (.string Y) := (hba.cell (p := ⟨b, o + I * 3 + 1, none⟩) (World.block_lt_of_cell? wr _ d1)).trans d1
      have e2 : (wr.alloc (.cells #[.string ⟨#[]⟩, .string ⟨#[]⟩, .bool false] 52)).cell? ⟨b, o + I * 3 + 2, none⟩ = some (.bool Z) := (hba.cell (p := ⟨b, o + I * 3 + 2, none⟩) (World.block_lt_of_cell? wr _ d2)).trans d2
      clear hba
      go_wp2
      go_region
      cases hN : X.toList == nm.toList with
      | false =>
        go_wp2
        go_roundw
        case rel =>
          refine ⟨k + 1, d, by have := HN.out; have := hKN.out; omega, by rw [HJ.out]; go_num, rfl, ?_, HBZ.out⟩
          rw [HDk.out, HX.out, hN, HRR.out]
          rfl
        case measure => simp [intOf]; have := HJ.out; have := hKN.out; omega
      | true =>
        cases hV : Y.toList == vl.toList with
        | false =>
          rcases Nat.eq_zero_or_pos d with h0 | h0
          · subst h0
            go_wp2
            go_roundw
            case rel =>
              refine ⟨k + 1, k + 1, by have := HN.out; have := hKN.out; omega, by rw [HJ.out]; go_num, by rw [HJ.out], ?_, HBZ.out⟩
              rw [HDk.out, HX.out, hN, hV, HRR.out, HJ.out]
              simp
            case measure => simp [intOf]; have := HJ.out; have := hKN.out; omega
          · have hd0 : ¬ (d : Int) = 0 := by omega
            go_wp2
            go_roundw
            case rel =>
              refine ⟨k + 1, d, by have := HN.out; have := hKN.out; omega, by rw [HJ.out]; go_num, rfl, ?_, HBZ.out⟩
              rw [HDk.out, if_neg (show ¬ d = 0 by omega), if_neg (show ¬ d = 0 by omega), HX.out, hN, hV, HRR.out]
              simp
            case measure => simp [intOf]; have := HJ.out; have := hKN.out; omega
        | true =>
          rcases Nat.eq_zero_or_pos d with h0 | h0
          · subst h0
            have HE : Hid (D = (j, j)) := Lib.hid (by rw [HDk.out, HX.out, hN, hV, HJ.out]; rfl)
            go_wp2
            go_ret2
            rw [HE.out]
            exact ⟨rfl, HBZ.out⟩
          · have hd0 : ¬ (d : Int) = 0 := by omega
            have HE : Hid (D = (j, d)) := Lib.hid (by rw [HDk.out, if_neg (show ¬ d = 0 by omega), HX.out, hN, hV, HJ.out]; rfl)
            go_wp2
            go_ret2
            rw [HE.out]
            exact ⟨rfl, HBZ.out⟩
    · have HE : Hid (D = (0, d)) := Lib.hid (by
        rw [HDk.out, List.drop_of_length_le (by have := HN.out; omega)]
        split
        · rw [fndL]; simp_all
        · rfl)
      have jn : ¬ ((k + 1 : Nat) : Int) ≤ (n : Int) := by omega
      go_wp2
      go_ret2
      rw [HE.out]
      exact ⟨rfl, HBW.out⟩
end Go.Proofs.YtiandidencnlcaaDoor
