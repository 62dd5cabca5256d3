/- Contracts of the document's own table: Add, Limit, Get, Find. -/
import Derived.Test.YtjohchedckmadaaDRef
import Derived.Test.YtjohchedckmadaaDGetL
namespace Go.Proofs.Ytjohchedckmadaa
open Go.RowKit

theorem TPost.refl {S : Nat → Prop} {w : World} {p m : Nat} {l : List Fld} (h : RT w S p m l) : TPost S w p m l w := ⟨S, h, fun _ hx => .inl hx, Keeps.refl _ _⟩
theorem TPost.then {S S1 : Nat → Prop} {w w1 w2 : World} {p m2 : Nat} {l2 : List Fld} (hS : ∀ x, S1 x → S x ∨ w.heap.size ≤ x) (hK : Keeps S w w1) (h : TPost S1 w1 p m2 l2 w2) : TPost S w p m2 l2 w2 := by
  obtain ⟨S2, hT, hS2, hK2⟩ := h
  refine ⟨S2, hT, fun x hx => ?_, hK.trans hK2 (fun x hx hlt => ?_)⟩
  · rcases hS2 x hx with h1 | h1
    · exact hS x h1
    · exact .inr (Nat.le_trans hK.size h1)
  · rcases hS x hx with h1 | h1
    · exact h1
    · omega
set_option maxRecDepth 100000 in
set_option maxHeartbeats 8000000 in
theorem radd_any (w : World) (S : Nat → Prop) (p m : Nat) (l : List Fld) (f : Fld) (h : RT w S p m l) (hm : tot l ≤ 46400) (hf : fsize f ≤ 46400) :
    Calls Try.prog 12 #[.pointer (some ⟨p, 0, none⟩), .agg #[.string f.name, .string f.value, .bool f.never]] w fun e w' => e = .returned (.tuple #[]) ∧ TPost S w p m (addL m f l) w' := by
  obtain ⟨⟨A, c, hh, hat, hA0, hnc, hAS⟩, hSp, hlow, hsm⟩ := id h
  have hpl : p < w.heap.size := hlow p hSp
  obtain ⟨n, hn⟩ : ∃ n, n = l.length := ⟨_, rfl⟩
  have hln := tot_pos l
  rw [← hn] at hh hnc hln
  obtain ⟨g, hg⟩ : ∃ g, g = w.heap.size := ⟨_, rfl⟩
  obtain ⟨F1, F2, F3⟩ := f
  simp only []
  have hb1 : Below w.heap.size w (w.alloc (.cells #[.string F1, .string F2, .bool false] 33)) := (Below.refl _ _).alloc (Nat.le_refl _) _
  have hgh : (w.alloc (.cells #[.string F1, .string F2, .bool false] 33)).heap[w.heap.size]? = some (.cells #[.string F1, .string F2, .bool false] 33 (0, 0)) := heap_alloc_new w _
  obtain ⟨w1, hw1⟩ : ∃ w1, w1 = w.alloc (.cells #[.string F1, .string F2, .bool false] 33) := ⟨_, rfl⟩
  rw [← hw1] at hb1 hgh
  rw [← hg] at hgh
  have g0 : w1.cell? ⟨g, 0, none⟩ = some (.string F1) := cell_of_row _ g 0 _ 33 _ hgh
  have g1 : w1.cell? ⟨g, 1, none⟩ = some (.string F2) := cell_of_row _ g 1 _ 33 _ hgh
  have g2 : w1.cell? ⟨g, 2, none⟩ = some (.bool false) := cell_of_row _ g 2 _ 33 _ hgh
  have y1 : w1.cell? ⟨p, 1, none⟩ = some (.slice A n c) := (hb1.cell (p := ⟨p, 1, none⟩) hpl).trans (cell_of_row _ p 1 _ 45 _ hh)
  have fz : w1.frozen? ⟨p, 1, none⟩ = false := (hb1.frozen (p := ⟨p, 1, none⟩) hpl).trans (frozen_of_row w p 1 _ 45 hh)
  have hp1 : p < w1.heap.size := Nat.lt_of_lt_of_le hpl hb1.size
  have hgl : g < w1.heap.size := World.block_lt_of_cell? w1 _ g0
  have hP1 : TPost S w p m l w1 := (TPost.refl h).quiet hb1
  have hat1 : AtF w1 w1.heap.size A l := hat.up hb1
  have HB1 := Lib.hid hb1
  have HP1 := Lib.hid hP1
  have HL := Lib.hid hn
  have hsz1 : w.heap.size ≤ w1.heap.size := hb1.size
  have htn : n ≤ 1450 := by omega
  go_enter Try.func12, Try.ntmps12
  go_wp2
  rw [← hw1, ← hg]
  have hbd : Below w1.heap.size w1 (w1.alloc (.cells #[.string F1, .string F2, .bool false] 33)).drew := ((Below.refl _ _).alloc (Nat.le_refl _) _).drew
  have HOWN : Hid ((w1.alloc (.cells #[.string F1, .string F2, .bool false] 33)).drew.ownsRow w1.heap.size 33 3 (.slice (some ⟨w1.heap.size, 0, none⟩) 1 1) 1 (cF [⟨F1, F2, false⟩])) := Lib.hid ⟨rfl, .inr ⟨w1.heap.size, 1, _, rfl, Nat.le_refl _, heap_alloc_new w1 _, Nat.le_refl _, by decide, rfl, rfl⟩⟩
  have HAT1 : Hid (AtF (w1.alloc (.cells #[.string F1, .string F2, .bool false] 33)).drew (w1.alloc (.cells #[.string F1, .string F2, .bool false] 33)).drew.heap.size A l) := Lib.hid (hat1.up hbd)
  have hl2 : 1 + n ≤ 1000000 := by omega
  have HSZ : Hid (w1.heap.size ≤ (w1.alloc (.cells #[.string F1, .string F2, .bool false] 33)).drew.heap.size) := Lib.hid hbd.size
  have ya : (w1.alloc (.cells #[.string F1, .string F2, .bool false] 33)).cell? ⟨p, 1, none⟩ = some (.slice A n c) := (hbd.cell (p := ⟨p, 1, none⟩) hp1).trans y1
  have HKA : Hid (∀ w9, (w1.alloc (.cells #[.string F1, .string F2, .bool false] 33)).drew.grownBy w9 (Value.ownBlock (.slice (some ⟨w1.heap.size, 0, none⟩) 1 1)) → w9.cell? ⟨p, 1, none⟩ = some (.slice A n c) ∧ w9.frozen? ⟨p, 1, none⟩ = false ∧ Below w1.heap.size w1 w9) := Lib.hid (fun w9 hg => by
    have hb9 : Below w1.heap.size w1 w9 := hbd.grown hg hbd.size (fun k hk => by simp [Value.ownBlock] at hk; omega)
    exact ⟨(hb9.cell (p := ⟨p, 1, none⟩) hp1).trans y1, (hb9.frozen (p := ⟨p, 1, none⟩) hp1).trans fz, hb9⟩)
  have HG := Lib.hid hg
  clear hw1 hgh hh hat hat1 hP1 h hAS hlow hg hn
  go_wp2
  go_region_law (refine step_appF (by rfl) (.tmp 7) (.tmp 11) (by rfl) w1.heap.size (.slice (some ⟨w1.heap.size, 0, none⟩) 1 1) 1 [⟨F1, F2, false⟩] (by rfl) HOWN.out A l n c (by rfl) HL.out.symm hA0 _ HAT1.out hl2 HSZ.out ?_; intro v5 w9 hown5 hg5; obtain ⟨ck9, fz9, hb9⟩ := HKA.out w9 hg5; obtain ⟨A5, c5, rfl, hc5, hA5⟩ := rowF_shape hown5)
  all_goals
    have hnew : TPost S w p m (kept ⟨F1, F2, F3⟩ :: l) (w9.setCell ⟨p, 1, none⟩ (.slice A5 (1 + n) c5)) := HP1.out.put hsz1 (Nat.le_refl _) hb9 (by rw [List.length_cons, ← HL.out]; omega) hown5 (by rw [tot, kept_size]; omega)
    obtain ⟨S2, hT2, hS2, hK2⟩ := hnew
    have HCUT := Lib.hid (rcut_any _ S2 p m _ hT2)
    have HS2 := Lib.hid hS2
    have HK2 := Lib.hid hK2
    clear hT2 hS2 hK2
    go_wp2_with fail
    with_reducible refine (HCUT.out).mono ?_
    rintro e w10 ⟨rfl, hP⟩
    have hfin : TPost S w p m (addL m ⟨F1, F2, F3⟩ l) w10 := TPost.then HS2.out HK2.out hP
    go_wp2
    go_end0
    exact ⟨rfl, hfin⟩
/-- Another limit is laid into the table. -/
theorem TPost.most {S : Nat → Prop} {w : World} {p m k : Nat} {l : List Fld} (h : RT w S p m l) : TPost S w p k l (w.setCell ⟨p, 0, none⟩ (.int .i64 (k : Int))) := by
  obtain ⟨⟨A, c, hh, hat, hA0, hnc, hAS⟩, hSp, hlow, hsm⟩ := h
  have hsz : (w.setCell ⟨p, 0, none⟩ (.int .i64 (k : Int))).heap.size = w.heap.size := by simp [World.setCell]
  refine ⟨S, ⟨⟨A, c, ?_, fun hl => ?_, hA0, hnc, hAS⟩, hSp, fun x hx => by rw [hsz]; exact hlow x hx, hsm⟩, fun _ hx => .inl hx, (Keeps.refl S w).setCell (p := ⟨p, 0, none⟩) hSp _⟩
  · have := heap_setCell_same w p 0 _ 45 (.int .i64 (k : Int)) hh
    simpa using this
  · obtain ⟨b, o, rfl, hbl, hc⟩ := hat hl
    have hbp := (hAS b o none rfl).2
    refine ⟨b, o, rfl, by rw [hsz]; exact hbl, fun i hi => ?_⟩
    obtain ⟨c0, c1, c2⟩ := hc i hi
    refine ⟨?_, ?_, ?_⟩
    · rw [World.cell?_setCell_other w ⟨p, 0, none⟩ ⟨b, o + i * 3, none⟩ _ (by rintro e; injection e with e _; exact hbp e.symm)]; exact c0
    · rw [World.cell?_setCell_other w ⟨p, 0, none⟩ ⟨b, o + i * 3 + 1, none⟩ _ (by rintro e; injection e with e _; exact hbp e.symm)]; exact c1
    · rw [World.cell?_setCell_other w ⟨p, 0, none⟩ ⟨b, o + i * 3 + 2, none⟩ _ (by rintro e; injection e with e _; exact hbp e.symm)]; exact c2
set_option maxRecDepth 100000 in
set_option maxHeartbeats 4000000 in
theorem rlimit_ok (w : World) (S : Nat → Prop) (p m k : Nat) (l : List Fld) (h : RT w S p m l) (hk : k ≤ 4096) :
    Calls Try.prog 14 #[.pointer (some ⟨p, 0, none⟩), .int .i64 (k : Int)] w fun e w' => e = .returned (.int .i64 0) ∧ TPost S w p k (fitL k l) w' := by
  have hP := TPost.most (k := k) h
  obtain ⟨⟨A, c, hh, _⟩, _⟩ := h
  have y0 : w.cell? ⟨p, 0, none⟩ = some (.int .i64 (m : Int)) := cell_of_row _ p 0 _ 45 _ hh
  have fz : w.frozen? ⟨p, 0, none⟩ = false := frozen_of_row w p 0 _ 45 hh
  obtain ⟨S2, hT2, hS2, hK2⟩ := hP
  have HCUT := Lib.hid (rcut_any _ S2 p k _ hT2)
  have HS2 := Lib.hid hS2
  have HK2 := Lib.hid hK2
  have h1 : ¬ (k : Int) < 0 := by omega
  have h2 : ¬ (4096 : Int) < (k : Int) := by omega
  clear hT2 hS2 hK2 hh
  go_enter Try.func14, Try.ntmps14
  go_wp2_with fail
  with_reducible refine (HCUT.out).mono ?_
  rintro e w10 ⟨rfl, hP⟩
  have hfin : TPost S w p k (fitL k l) w10 := TPost.then HS2.out HK2.out hP
  clear y0 fz
  go_wp2
  go_ret
  exact ⟨rfl, hfin⟩
set_option maxRecDepth 100000 in
theorem rlimit_no (w : World) (p : Nat) (k : Int) (hk : k < 0 ∨ 4096 < k) :
    Calls Try.prog 14 #[.pointer (some ⟨p, 0, none⟩), .int .i64 k] w fun e w' => e = .returned (.int .i64 1) ∧ w' = w := by
  by_cases h1 : k < 0
  · go_enter Try.func14, Try.ntmps14
    go_wp2
    go_ret
    exact ⟨rfl, rfl⟩
  · have h2 : 4096 < k := by omega
    go_enter Try.func14, Try.ntmps14
    go_wp2
    go_ret
    exact ⟨rfl, rfl⟩
set_option maxRecDepth 100000 in
set_option maxHeartbeats 4000000 in
theorem rtget_any (w : World) (S : Nat → Prop) (p m : Nat) (l : List Fld) (i : Int) (h : RT w S p m l) (hi : -9223372036854775808 ≤ i ∧ i ≤ 9223372036854775807) :
    Calls Try.prog 16 #[.pointer (some ⟨p, 0, none⟩), .int .i64 i] w (FPost w (getL l i)) := by
  obtain ⟨⟨A, c, hh, hat, hA0, hnc, hAS⟩, hSp, hlow, hsm⟩ := h
  have hpl : p < w.heap.size := hlow p hSp
  obtain ⟨n, hn⟩ : ∃ n, n = l.length := ⟨_, rfl⟩
  rw [← hn] at hh
  have HN := Lib.hid hn
  have hb0 : Below w.heap.size w (w.alloc (.cells #[.string ⟨#[]⟩, .string ⟨#[]⟩, .bool false] 33)) := (Below.refl _ _).alloc (Nat.le_refl _) _
  have y1 : (w.alloc (.cells #[.string ⟨#[]⟩, .string ⟨#[]⟩, .bool false] 33)).cell? ⟨p, 1, none⟩ = some (.slice A n c) := (hb0.cell (p := ⟨p, 1, none⟩) hpl).trans (cell_of_row _ p 1 _ 45 _ hh)
  have hnn : (n : Int) ≤ 9223372036854775807 := by have := tot_pos l; omega
  by_cases h1 : i < 1
  · have HS : Hid (getL l i = (⟨⟨#[]⟩, ⟨#[]⟩, false⟩, false)) := Lib.hid (by rw [getL, if_neg (by omega)])
    clear hn hh hat
    go_enter Try.func16, Try.ntmps16
    go_wp2
    refine bodyPost_ret (v := .tuple #[.agg #[.string ⟨#[]⟩, .string ⟨#[]⟩, .bool false], .bool false]) (by simp [results, Try.results16, go_sem]) rfl ⟨?_, hb0⟩
    rw [HS.out]
  · by_cases h2 : (n : Int) < i
    · have HS : Hid (getL l i = (⟨⟨#[]⟩, ⟨#[]⟩, false⟩, false)) := Lib.hid (by rw [getL, if_neg (by omega)])
      clear hn hh hat
      go_enter Try.func16, Try.ntmps16
      go_wp2
      refine bodyPost_ret (v := .tuple #[.agg #[.string ⟨#[]⟩, .string ⟨#[]⟩, .bool false], .bool false]) (by simp [results, Try.results16, go_sem]) rfl ⟨?_, hb0⟩
      rw [HS.out]
    · obtain ⟨j, rfl⟩ : ∃ v : Nat, i = (v : Int) := ⟨i.toNat, by omega⟩
      obtain ⟨I, hI⟩ : ∃ I, I = j - 1 := ⟨_, rfl⟩
      have hIl : I < l.length := by omega
      obtain ⟨b, o, rfl, hbl, hc⟩ := hat.pos (by omega)
      obtain ⟨c0, c1, c2⟩ := hc I hIl
      obtain ⟨f, hf⟩ : ∃ f, f = l[I] := ⟨_, rfl⟩
      rw [← hf] at c0 c1 c2
      obtain ⟨X, Y, Z⟩ := f
      simp only [] at c0 c1 c2
      have HS : Hid (getL l (j : Int) = (⟨X, Y, Z⟩, true)) := Lib.hid (by rw [getL, if_pos (by omega), Int.toNat_natCast, ← hI, List.getD, List.getElem?_eq_getElem hIl, hf]; rfl)
      have d0 : (w.alloc (.cells #[.string ⟨#[]⟩, .string ⟨#[]⟩, .bool false] 33)).cell? ⟨b, o + I * 3, none⟩ = some (.string X) := (hb0.cell (p := ⟨b, o + I * 3, none⟩) hbl).trans c0
      have d1 : (w.alloc (.cells #[.string ⟨#[]⟩, .string ⟨#[]⟩, .bool false] 33)).cell? ⟨b, o + I * 3 + 1, none⟩ = some (.string Y) := (hb0.cell (p := ⟨b, o + I * 3 + 1, none⟩) hbl).trans c1
      have d2 : (w.alloc (.cells #[.string ⟨#[]⟩, .string ⟨#[]⟩, .bool false] 33)).cell? ⟨b, o + I * 3 + 2, none⟩ = some (.bool Z) := (hb0.cell (p := ⟨b, o + I * 3 + 2, none⟩) hbl).trans c2
      have eI : (j : Int) - 1 = (I : Int) := by omega
      have In : (I : Int) < (n : Int) := by omega
      have ewi : IntKind.i64.wrap (I : Int) = (I : Int) := IntWalk.i64_in _ (by omega)
      have hbZ : Below w.heap.size w (w.alloc (.cells #[.string X, .string Y, .bool Z] 33)) := (Below.refl _ _).alloc (Nat.le_refl _) _
      clear hn hh hat hI hf hc c0 c1 c2
      go_enter Try.func16, Try.ntmps16
      go_wp2
      refine bodyPost_ret (v := .tuple #[.agg #[.string X, .string Y, .bool Z], .bool true]) (by simp [results, Try.results16, go_sem]) rfl ⟨?_, hbZ⟩
      rw [HS.out]
end Go.Proofs.Ytjohchedckmadaa
