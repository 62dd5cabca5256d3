/- The landed table: shrink. -/
import Derived.Test.YtjohchedckmadaaLDDel
import Derived.Test.YtjohchedckmadaaLDSize
namespace Go.Proofs.Ytjohchedckmadaa
open Go.RowKit
/-- As many from the beginning on as there is room for: none, where the room is below 0. -/
def fitI (room : Int) (l : List Fld) : List Fld := if room < 0 then [] else fitL room.toNat l
theorem fitI_nil (room : Int) : fitI room [] = [] := by unfold fitI; split <;> rfl
theorem fitI_all (room : Int) (l : List Fld) (h : (tot l : Int) ≤ room) : fitI room l = l := by
  rw [fitI, if_neg (by omega), fit_all _ _ (by omega)]
theorem fitI_less (room : Int) (l : List Fld) (h : room < (tot l : Int)) : fitI room l = fitI room l.dropLast := by
  unfold fitI
  split
  · rfl
  · rw [fit_less _ _ (by omega)]
theorem fitI_tot (room : Int) (l : List Fld) : tot (fitI room l) ≤ tot l := by
  unfold fitI
  split
  · simp [tot]
  · obtain ⟨k, hk⟩ := fit_pre room.toNat l
    rw [hk]
    exact tot_le l k
theorem Keeps.of_grown {w w' : World} {v : Value} (h : w.grownBy w' v.ownBlock) : Keeps (fun x => v.ownBlock = some x) w w' :=
  ⟨h.os, h.tape, h.output, h.size, fun k hk hn => h.block k hk (fun e => hn e.symm)⟩
/-- Behind j that go: what is left counts s. -/
def ShR (w : World) (room : Int) (l : List Fld) (s g : Value) (wr : World) : Prop :=
  ∃ j i : Nat, j + i = l.length ∧ g = .int .i64 (j : Int) ∧ s = .int .i64 ((tot (l.take i) : Nat) : Int) ∧ fitI room (l.take i) = fitI room l ∧ Below w.heap.size w wr
theorem rev_drop (l : List Fld) (j i : Nat) (h : j + i = l.length) : l.reverse.drop j = (l.take i).reverse := by
  rw [List.drop_reverse]
  congr 2
  omega
theorem rev_at2 (l : List Fld) (j i : Nat) (h : j + (i + 1) = l.length) (hj : j < l.reverse.length) (hi : i < l.length) : l.reverse[j] = l[i] := by
  rw [List.getElem_reverse]
  congr 1
  omega
set_option maxRecDepth 100000 in
set_option maxHeartbeats 8000000 in
theorem dshrink_any (w : World) (S : Nat → Prop) (p m : Nat) (l : List Fld) (room : Int) (h : DT0 w S p m l) :
    Calls Try.prog 26 #[.pointer (some ⟨p, 0, none⟩), .int .i64 room] w fun e w' => e = .returned (.tuple #[]) ∧ DPost0 S w p m (fitI room l) w' := by
  have HSZ := Lib.hid (dsize0 w S p m l h)
  obtain ⟨v, hh, ho, hvp, hS, ht, hm⟩ := h
  have hpl := lt_of_heap hh
  obtain ⟨n, hn⟩ : ∃ n, n = l.length := ⟨_, rfl⟩
  rw [← hn] at ho
  obtain ⟨A, c, rfl, hnc, hA⟩ := rowF_shape ho
  have hat := AtF.of_own ho
  have hnn : n ≤ 128 := by have := tot_pos l; omega
  have HC : Hid (w.cell? ⟨p, 0, none⟩ = some (.slice A n c)) := Lib.hid (cell_of_row _ p 0 _ 53 _ hh)
  have HFZ : Hid (w.frozen? ⟨p, 0, none⟩ = false) := Lib.hid (frozen_of_row w p 0 _ 53 hh)
  have HPUT := Lib.hid (fun (w1 : World) (v2 : Value) (l2 : List Fld) (hk : Keeps (fun x => (Value.slice A n c).ownBlock = some x) w w1) (ho : w1.ownsRow 0 33 3 v2 l2.length (cF l2.reverse)) (hb : v2.ownBlock = (Value.slice A n c).ownBlock) (ht : tot l2 ≤ 4096) => DT0.put (m2 := m) hh hvp hS hk ho rfl (fun k hk2 => .inl (hb ▸ hk2)) ht hm rfl)
  have HVP := Lib.hid hvp
  have HN := Lib.hid hn
  have HAT := Lib.hid hat
  have HO := Lib.hid ho
  have HP := Lib.hid hpl
  have HT := Lib.hid ht
  clear hn hat hh ho hvp hS ht hpl hm
  go_enter Try.func26, Try.ntmps26
  go_wp2_with fail
  with_reducible refine (HSZ.out).mono ?_
  rintro e w1 ⟨rfl, hb1⟩
  have HB1 := Lib.hid hb1
  obtain ⟨T0, hT0⟩ : ∃ T, T = tot l := ⟨_, rfl⟩
  rw [← hT0]
  have HT0 := Lib.hid hT0
  clear HSZ hb1 hT0
  go_wp2
  go_loopw [4, 5] (fun s g wr => ShR w room l s g wr) (fun _ g _ => n - (intOf g).toNat)
  case atStart => exact ⟨0, l.length, by omega, rfl, by rw [List.take_length, HT0.out], by rw [List.take_length], HB1.out⟩
  case round =>
    obtain ⟨j, i, hji, rfl, rfl, hfit, hbw⟩ := hrel
    have HF := Lib.hid hfit
    have HJI := Lib.hid hji
    have y1 : wr.cell? ⟨p, 0, none⟩ = some (.slice A n c) := (hbw.cell (p := ⟨p, 0, none⟩) HP.out).trans HC.out
    have HBW := Lib.hid hbw
    have hjn : j ≤ n := by have := HN.out; omega
    obtain ⟨T, hT⟩ : ∃ T, T = tot (l.take i) := ⟨_, rfl⟩
    rw [← hT]
    have hTb : T ≤ 4096 := by rw [hT]; exact Nat.le_trans (tot_le l i) HT.out
    have HTT := Lib.hid hT
    clear hfit hji hbw hT
    by_cases hgo : j < n ∧ room < (T : Int)
    · obtain ⟨hlt, hgt⟩ := hgo
      obtain ⟨i2, rfl⟩ : ∃ i2, i = i2 + 1 := ⟨i - 1, by have := HJI.out; have := HN.out; omega⟩
      have hil : i2 < l.length := by have := HJI.out; omega
      have hjl : j < l.reverse.length := by rw [List.length_reverse]; have := HN.out; omega
      obtain ⟨b, o, rfl, hbl, hc⟩ := HAT.out.pos (by omega)
      obtain ⟨c0, c1, c2⟩ := hc j hjl
      rw [rev_at2 l j i2 HJI.out hjl hil] at c0 c1 c2
      obtain ⟨f, hf⟩ : ∃ f, f = l[i2] := ⟨_, rfl⟩
      rw [← hf] at c0 c1 c2
      have d0 : wr.cell? ⟨b, o + j * 3, none⟩ = some (.string f.name) := (HBW.out.cell (p := ⟨b, o + j * 3, none⟩) hbl).trans c0
      have d1 : wr.cell? ⟨b, o + j * 3 + 1, none⟩ = some (.string f.value) := (HBW.out.cell (p := ⟨b, o + j * 3 + 1, none⟩) hbl).trans c1
      have d2 : wr.cell? ⟨b, o + j * 3 + 2, none⟩ = some (.bool f.never) := (HBW.out.cell (p := ⟨b, o + j * 3 + 2, none⟩) hbl).trans c2
      have HNX : Hid (T = tot (l.take i2) + fsize f) := Lib.hid (by rw [HTT.out, tot_next l i2 hil, hf])
      have HOK : Hid f.ok := Lib.hid (ok_of (by rw [hf]; exact List.getElem_mem _) (by have := HT.out; omega))
      obtain ⟨y, hy⟩ : ∃ y, y = fsize f := ⟨_, rfl⟩
      obtain ⟨T2, hT2⟩ : ∃ T2, T2 = tot (l.take i2) := ⟨_, rfl⟩
      rw [← hy, ← hT2] at HNX
      have eT : (T : Int) - (y : Int) = (T2 : Int) := by have := HNX.out; omega
      have HY := Lib.hid hy
      have HT2 := Lib.hid hT2
      have jn : (j : Int) < (n : Int) := by omega
      clear hc hf c0 c1 c2 hy hT2 hil hjl
      go_wp2_with fail
      with_reducible refine (size_s f _ HOK.out).mono ?_
      rw [← HY.out]
      rintro e w2 ⟨rfl, hb2⟩
      have HB3 := Lib.hid (HBW.out.trans (hb2.mono HBW.out.size))
      clear d0 d1 d2 hb2 y1
      go_wp2
      go_roundw
      case rel =>
        refine ⟨j + 1, i2, by have := HJI.out; omega, by go_num, by rw [← HT2.out], ?_, HB3.out⟩
        rw [← HF.out, fitI_less room (l.take (i2 + 1)) (by rw [← HTT.out]; exact hgt), dropLast_take l i2 (by have := HJI.out; omega)]
      case measure => simp [intOf]; omega
    · have hres : fitI room l = l.take i := by
        rw [← HF.out]
        by_cases h0 : j < n
        · exact fitI_all room _ (by rw [← HTT.out]; omega)
        · have : i = 0 := by have := HJI.out; have := HN.out; omega
          subst this
          exact fitI_nil room
      have HRES := Lib.hid hres
      have HD := Lib.hid (fun (W : World) (hb : Below w.heap.size w W) => del_any 0 (.slice A n c) n j l.reverse W (rowF_keep HO.out hb) hjn)
      have HKEY : Hid (∀ (w2 w3 : World) (v' : Value), Below w.heap.size w w2 → w3.ownsRow 0 33 3 v' (n - j) (cF (l.reverse.drop j)) → v'.ownBlock = (Value.slice A n c).ownBlock → w2.grownBy w3 (Value.slice A n c).ownBlock → DPost0 S w p m (l.take i) (w3.setCell ⟨p, 0, none⟩ v') ∧ w3.cell? ⟨p, 0, none⟩ = some (.slice A n c) ∧ w3.frozen? ⟨p, 0, none⟩ = false) := Lib.hid (fun w2 w3 v' hb2 ho3 hv3 hg3 => by
        have hk3 : Keeps (fun x => (Value.slice A n c).ownBlock = some x) w w3 := (Keeps.of_below hb2).trans (Keeps.of_grown hg3) (fun x hx _ => hx)
        have hnp : ¬ (Value.slice A n c).ownBlock = some p := fun e => HVP.out p e rfl
        refine ⟨?_, (hk3.cell (p := ⟨p, 0, none⟩) HP.out hnp).trans HC.out, (hk3.frozen (p := ⟨p, 0, none⟩) HP.out hnp).trans HFZ.out⟩
        have hil : (l.take i).length = n - j := by rw [List.length_take]; have := HJI.out; have := HN.out; omega
        rw [rev_drop l j i HJI.out, ← hil] at ho3
        exact HPUT.out w3 v' (l.take i) hk3 ho3 hv3 (by rw [← HTT.out]; exact hTb))
      have HDW := Lib.hid (HD.out wr HBW.out)
      have hgo2 : ¬ ((j : Int) < (n : Int) ∧ room < (T : Int)) := by omega
      clear hres HD hgo
      by_cases h0 : (j : Int) < (n : Int)
      · have h1 : ¬ room < (T : Int) := fun h => hgo2 ⟨h0, h⟩
        clear hgo2
        go_wp2_with fail
        with_reducible refine (HDW.out).mono ?_
        rintro e w3 ⟨v', rfl, ho3, hv3, hg3⟩
        obtain ⟨hfin, z1, z2⟩ := HKEY.out wr w3 v' HBW.out ho3 hv3 hg3
        have HFIN := Lib.hid hfin
        obtain ⟨A3, c3, rfl, _⟩ := rowF_shape ho3
        clear hfin y1 ho3 hv3 hg3
        go_wp2
        rw [HRES.out]
        go_end0
        exact ⟨rfl, HFIN.out⟩
      · clear hgo2
        go_wp2_with fail
        with_reducible refine (HDW.out).mono ?_
        rintro e w3 ⟨v', rfl, ho3, hv3, hg3⟩
        obtain ⟨hfin, z1, z2⟩ := HKEY.out wr w3 v' HBW.out ho3 hv3 hg3
        have HFIN := Lib.hid hfin
        obtain ⟨A3, c3, rfl, _⟩ := rowF_shape ho3
        clear hfin y1 ho3 hv3 hg3
        go_wp2
        rw [HRES.out]
        go_end0
        exact ⟨rfl, HFIN.out⟩
end Go.Proofs.Ytjohchedckmadaa
