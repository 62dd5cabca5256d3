/- The walk of FrameRooms. -/
import Derived.Test.YtegcloapadippaaFUse
import Derived.Test.YtegcloapadippaaLCut
import Derived.Deep.RegionHeld3
namespace Go.Proofs.Ytegcloapadippaa
open Go.RowKit Fr

theorem At.kept {wr w' : World} {X : Nat → Prop} {A : Option Addr} {l : List Nat} (h : At .u8 wr wr.heap.size A l) (hX : l ≠ [] → ∀ a, A = some a → X a.block) (hk : ∀ x, X x → w'.heap[x]? = wr.heap[x]?) (hs : wr.heap.size ≤ w'.heap.size) : At .u8 w' w'.heap.size A l := fun hne => by
  obtain ⟨b, o, e, hB, hc⟩ := h hne
  exact ⟨b, o, e, Nat.lt_of_lt_of_le hB hs, fun i hi => (World.cell?_of_block (w := wr) (a := ⟨b, o + i, none⟩) (hk b (hX hne _ e))).trans (hc i hi)⟩
theorem cut_block {A : Option Addr} {c q : Nat} {a : Addr} (h : cutAt A c q = some a) : ∃ a', A = some a' ∧ a'.block = a.block := by
  unfold cutAt at h
  split at h
  · exact ⟨a, h, rfl⟩
  · cases A with
    | none => cases h
    | some a' =>
      simp only [Option.map_some, Option.some.injEq] at h
      subst h
      exact ⟨a', rfl, by unfold Addr.add; split <;> rfl⟩
namespace frameRooms
def fr (n : Nat) : Frm := ⟨0, 0, 1, List.replicate n 0⟩
theorem put_fr (n : Nat) (h : n ≤ 20001) : put (fr n) = (head (fr n) ++ List.replicate n 0, 0) := by
  rw [put, if_pos (by simp [fr, Frm.in_]), if_neg (by simp [fr]; omega)]
  rfl
theorem bytes_fr (n : Nat) : ∀ x ∈ head (fr n) ++ List.replicate n 0, x < 256 := by
  intro x hx
  rcases List.mem_append.1 hx with h | h
  · simp only [head, fr, List.mem_append] at h
    rcases h with h | h | h
    · exact num_byte _ _ x h
    · simp at h; omega
    · exact num_byte _ _ x h
  · exact rep_lt n x h
theorem ok_fr {w : World} {g n : Nat} (h : At .u8 w w.heap.size (some ⟨g, 0, none⟩) (List.replicate n 0)) : (⟨fr n, some ⟨g, 0, none⟩, n⟩ : FrA).ok w w.heap.size := ⟨h, rep_lt n, (fun h => by cases h), by simp [fr], by simp [frmInts, fr]⟩
set_option maxRecDepth 100000 in
set_option maxHeartbeats 4000000 in
theorem walk_not (room : Int) (w : World) (hr : room < 0 ∨ 20000 < room) : Calls Try.prog 7 #[.int .i64 room] w (YesF w) := by
  have HF := Lib.hid fun (W : World) => first10_any W
  by_cases h1 : room < 0
  · clear hr
    go_enter Try.func7, Try.ntmps7
    go_wp2_with fail
    with_reducible refine (HF.out w).mono ?_
    rintro e w1 ⟨rfl, hb1⟩
    go_wp2_with fail
    with_reducible refine (HF.out w1).mono ?_
    rintro e w2 ⟨rfl, hb2⟩
    have hb3 := hb1.trans (hb2.mono hb1.size)
    go_wp2
    go_ret
    exact ⟨rfl, hb3⟩
  · have h2 : 20000 < room := by omega
    clear hr
    go_enter Try.func7, Try.ntmps7
    go_wp2_with fail
    with_reducible refine (HF.out w).mono ?_
    rintro e w1 ⟨rfl, hb1⟩
    go_wp2_with fail
    with_reducible refine (HF.out w1).mono ?_
    rintro e w2 ⟨rfl, hb2⟩
    have hb3 := hb1.trans (hb2.mono hb1.size)
    go_wp2
    go_ret
    exact ⟨rfl, hb3⟩
set_option maxRecDepth 100000 in
set_option maxHeartbeats 8000000 in
theorem walk_in (R : Nat) (w : World) (hr : R ≤ 20000) : Calls Try.prog 7 #[.int .i64 (R : Int)] w (YesF w) := by
  have HF := Lib.hid fun (W : World) => first10_any W
  obtain ⟨i0, hi0, hz0, hz1, hz2⟩ := info_parts infoU8
  have r0 : ¬ (R : Int) < 0 := by omega
  have r1 : ¬ (20000 : Int) < (R : Int) := by omega
  obtain ⟨R1, hR1⟩ : ∃ R1, R1 = R + 1 := ⟨_, rfl⟩
  have r2 : (R : Int) + 1 = (R1 : Int) := by omega
  have hr1 : R1 ≤ 20001 := by omega
  -- what is put
  obtain ⟨a, ha⟩ : ∃ a, a = head (fr R) ++ List.replicate R 0 := ⟨_, rfl⟩
  obtain ⟨b, hb⟩ : ∃ b, b = head (fr R1) ++ List.replicate R1 0 := ⟨_, rfl⟩
  have hpa : put (fr R) = (a, 0) := by rw [ha]; exact put_fr R (by omega)
  have hpb : put (fr R1) = (b, 0) := by rw [hb]; exact put_fr R1 hr1
  have hba : ∀ x ∈ a, x < 256 := by rw [ha]; exact bytes_fr R
  have hbb : ∀ x ∈ b, x < 256 := by rw [hb]; exact bytes_fr R1
  have hla : a.length = 9 + R := by rw [ha, List.length_append, head_len, List.length_replicate]
  have hlb : b.length = 9 + R1 := by rw [hb, List.length_append, head_len, List.length_replicate]
  obtain ⟨na, hna⟩ : ∃ n, n = a.length := ⟨_, rfl⟩
  obtain ⟨nb, hnb⟩ : ∃ n, n = b.length := ⟨_, rfl⟩
  have HPA : Hid (∀ W g, At .u8 W W.heap.size (some ⟨g, 0, none⟩) (List.replicate R 0) → Calls Try.prog 10 #[.agg #[.int .i64 0, .int .i64 0, .int .i64 1, .slice (some ⟨g, 0, none⟩) R R]] W (FpPost W (a, 0))) := Lib.hid (fun W g hat => by
    have := fput_f ⟨fr R, some ⟨g, 0, none⟩, R⟩ W (ok_fr hat) (by simp [fr]; omega)
    rw [hpa] at this
    simp only [frm, fr, List.length_replicate] at this
    exact this)
  have HPB : Hid (∀ W g, At .u8 W W.heap.size (some ⟨g, 0, none⟩) (List.replicate R1 0) → Calls Try.prog 10 #[.agg #[.int .i64 0, .int .i64 0, .int .i64 1, .slice (some ⟨g, 0, none⟩) R1 R1]] W (FpPost W (b, 0))) := Lib.hid (fun W g hat => by
    have := fput_f ⟨fr R1, some ⟨g, 0, none⟩, R1⟩ W (ok_fr hat) (by simp [fr]; omega)
    rw [hpb] at this
    simp only [frm, fr, List.length_replicate] at this
    exact this)
  have hnx1 : next (R : Int) ([] ++ a) = (fr R, 0, []) := by
    have := next_put hpa (R : Int) (by simp [fr]) []
    rw [List.append_nil] at this
    exact this
  have hnx2 : next (R : Int) ([] ++ b.take 8) = (noFrm, 4, b.take 8) := by rw [next, List.nil_append, if_pos (by rw [List.length_take]; omega)]
  have hnx3 : next (R : Int) (b.take 8 ++ (b.drop 8).take 1) = (noFrm, 3, b.take 8 ++ (b.drop 8).take 1) := by
    have h9 : b.take 8 ++ (b.drop 8).take 1 = b.take 9 := by
      have := List.take_append_drop 8 (b.take 9)
      rw [List.take_take, show min 8 9 = 8 by decide, List.drop_take] at this
      exact this
    rw [h9]
    exact next_long hpb (R : Int) (by simp [fr]; omega) _ [] (by rw [List.append_nil]; exact List.take_prefix 9 b) (by rw [List.length_take]; omega)
  have HNX1 := Lib.hid hnx1
  have HNX2 := Lib.hid hnx2
  have HNX3 := Lib.hid hnx3
  have HBA := Lib.hid hba
  have HBB := Lib.hid hbb
  have HNA := Lib.hid hna
  have HNB := Lib.hid hnb
  have na9 : na = 9 + R := by omega
  have nb9 : nb = 9 + R1 := by omega
  have nbi : ¬ (nb : Int) < 9 := by omega
  have HRI : Hid (-9223372036854775808 ≤ (R : Int) ∧ (R : Int) ≤ 9223372036854775807) := Lib.hid (by omega)
  clear ha hb hpa hpb hba hbb hla hlb hna hnb hnx1 hnx2 hnx3 hR1
  have HN9 := Lib.hid na9
  have HM9 := Lib.hid nb9
  clear na9 nb9
  go_enter Try.func7, Try.ntmps7
  go_wp2_with fail
  with_reducible refine (HF.out w).mono ?_
  rintro e w1 ⟨rfl, hb1⟩
  have HB1 := Lib.hid hb1
  clear hb1
  go_wp2_with (at_make; refine wpList_make_full _ rfl _ _ 25 rfl w1.heap.size 5 i0 _ 1 Try.underlying25 hi0 hz0 hz1 _ _ _ _ R rfl rfl (by omega) (by omega) (by rw [hz2]; omega) (by unfold maxLen; omega) (Nat.le_refl _) ?_; intro w2 hown2 hg2)
  have hb2 : Below w1.heap.size w1 w2 := (Below.refl _ _).grown hg2 (Nat.le_refl _) (by simp)
  have HB2 := Lib.hid (HB1.out.trans (hb2.mono HB1.out.size))
  have HP1 := Lib.hid (HPA.out w2 w1.heap.size (zeros_at hown2))
  clear hb2 hown2 hg2 HPA
  with_reducible refine (HP1.out).mono ?_
  rintro e w3 ⟨A3, c3, rfl, hat3, hn3, hc3, hnew3, hb3⟩
  simp only []
  rw [← HNA.out]
  have HB3 := Lib.hid (HB2.out.trans (hb3.mono HB2.out.size))
  have HAT3 := Lib.hid hat3
  have HN3 := Lib.hid hn3
  have HC3 := Lib.hid hc3
  clear hat3 hn3 hc3 hnew3 hb3 HP1
  go_wp2_with (at_make; refine wpList_make_full _ rfl _ _ 25 rfl w3.heap.size 5 i0 _ 1 Try.underlying25 hi0 hz0 hz1 _ _ _ _ R1 rfl rfl (by omega) (by omega) (by rw [hz2]; omega) (by unfold maxLen; omega) (Nat.le_refl _) ?_; intro w4 hown4 hg4)
  have hb4 : Below w3.heap.size w3 w4 := (Below.refl _ _).grown hg4 (Nat.le_refl _) (by simp)
  have HB4 := Lib.hid (HB3.out.trans (hb4.mono HB3.out.size))
  have HP2 := Lib.hid (HPB.out w4 w3.heap.size (zeros_at hown4))
  have HAT4 := Lib.hid (HAT3.out.up hb4)
  clear hb4 hown4 hg4 HPB HAT3 hi0 hz0 hz1 hz2
  with_reducible refine (HP2.out).mono ?_
  rintro e w5 ⟨A5, c5, rfl, hat5, hn5, hc5, hnew5, hb5⟩
  simp only []
  rw [← HNB.out]
  have HB5 := Lib.hid (HB4.out.trans (hb5.mono HB4.out.size))
  have HAT5 := Lib.hid (HAT4.out.up hb5)
  have HBT5 := Lib.hid hat5
  have HN5 := Lib.hid hn5
  have hcap5 : nb ≤ c5 := by rw [HNB.out]; exact hc5
  have HNEW := Lib.hid (HasP.new (room := (R : Int)) HB5.out HRI.out)
  clear hat5 hn5 hc5 hnew5 hb5 HP2 HAT4
  go_wp2_with fail
  with_reducible refine (HNEW.out).mono ?_
  rintro e w6 ⟨p, rfl, hH6, hb6⟩
  have hlt3 : a ≠ [] → ∀ x, A3 = some x → x.block < w5.heap.size := fun hne x hx => by
    obtain ⟨b1, o1, e, hB, _⟩ := HAT5.out hne
    rw [hx] at e
    injection e with e
    subst e
    exact hB
  have hlt5 : b ≠ [] → ∀ x, A5 = some x → x.block < w5.heap.size := fun hne x hx => by
    obtain ⟨b1, o1, e, hB, _⟩ := HBT5.out hne
    rw [hx] at e
    injection e with e
    subst e
    exact hB
  have HLT5 := Lib.hid hlt5
  have HFEED := Lib.hid (hH6.feed A3 a na c3 (HAT5.out.up hb6) HBA.out HNA.out.symm HN3.out (by rw [HNA.out]; exact HC3.out) hlt3 (fun x hx => by simp at hx) (by have := HN9.out; simp only [List.length_nil]; omega))
  have HBT6 := Lib.hid (HBT5.out.up hb6)
  clear hH6 hb6 hlt3 hlt5 HNEW HAT5 HBT5
  go_wp2_with fail
  with_reducible refine (HFEED.out).mono ?_
  rintro e w7 ⟨rfl, hH7, hs7, hk7⟩
  have hbt7 := HBT6.out.kept HLT5.out hk7 hs7
  have HBT7 := Lib.hid hbt7
  have HNXT := Lib.hid (hH7.next (by simpa using HBA.out) (by have := HN9.out; have := HNA.out; simp only [List.nil_append]; omega) HNX1.out)
  clear hH7 hs7 hk7 hbt7 HFEED HBT6
  go_wp2_with fail
  with_reducible refine (HNXT.out).mono ?_
  rintro e w8 ⟨A8, c8, rfl, hH8, hO8⟩
  simp only [frm, fr, List.length_replicate]
  have hbt8 := HBT7.out.kept HLT5.out hO8.kept hO8.size
  have HBT8 := Lib.hid hbt8
  have HH8 := Lib.hid hH8
  clear hH8 hO8 hbt8 HNXT HBT7
  obtain ⟨A6, hA6⟩ : ∃ A6, A6 = cutAt A5 c5 0 := ⟨_, rfl⟩
  have hsl1 := fun (W : World) => slice_h A5 nb c5 8 W (by have := HM9.out; omega)
  rw [← hA6, show ((8 : Nat) : Int) = 8 from rfl] at hsl1
  obtain ⟨A7, hA7⟩ : ∃ A7, A7 = cutAt A5 c5 8 := ⟨_, rfl⟩
  have hsl2 := fun (W : World) => slice_lh A5 nb c5 8 9 1 W (by omega) (by have := HM9.out; omega) rfl
  rw [← hA7, show ((8 : Nat) : Int) = 8 from rfl, show ((9 : Nat) : Int) = 9 from rfl] at hsl2
  have HA6 := Lib.hid hA6
  have HA7 := Lib.hid hA7
  clear hA6 hA7
  obtain ⟨g8, hg8⟩ : ∃ g, g = w8.heap.size := ⟨_, rfl⟩
  obtain ⟨w9, hw9⟩ : ∃ x, x = w8.alloc (.cells #[.int .i64 0, .int .i64 0, .int .i64 1, .slice A8 R c8] 30) := ⟨_, rfl⟩
  have hb9 : Below w8.heap.size w8 w9 := by rw [hw9]; exact (Below.refl _ _).alloc (Nat.le_refl _) _
  have hh9 : w9.heap[g8]? = some (.cells #[.int .i64 0, .int .i64 0, .int .i64 1, .slice A8 R c8] 30 (0, 0)) := by rw [hw9, hg8]; exact heap_alloc_new w8 _
  have hsz9 : w9.heap.size = g8 + 1 := by rw [hw9, hg8]; simp
  have HH9 : Hid (HasP w (fun x => x < w5.heap.size ∨ x = g8) p (R : Int) [] w9) := Lib.hid ((HH8.out.more hb9).less (fun x hx => by
    rcases hx with h | h
    · exact .inl (.inl h)
    · exact .inr ⟨by omega, by omega⟩))
  have hX5 : ∀ q x, b ≠ [] → cutAt A5 c5 q = some x → x.block < w5.heap.size := fun q x hne hx => by
    obtain ⟨a', h1, h2⟩ := cut_block hx
    rw [← h2]
    exact HLT5.out hne a' h1
  have HX5 := Lib.hid hX5
  have hbne : b ≠ [] := fun h => by
    have h1 := HM9.out
    have h2 := HNB.out
    rw [h] at h2
    simp at h2
    omega
  have HBNE := Lib.hid hbne
  have HBT9 := Lib.hid (HBT8.out.up hb9)
  have HG9 := Lib.hid hh9
  have HW9 := Lib.hid hw9
  have HG8 := Lib.hid hg8
  have HFD2 := Lib.hid (HH9.out.feed A6 (b.take 8) 8 c5 (by rw [HA6.out]; exact HBT9.out.take (by rw [← HNB.out]; exact hcap5)) (fun x hx => HBB.out x (List.mem_of_mem_take hx)) (by rw [List.length_take]; have := HM9.out; have := HNB.out; omega) (fun h => by have := cutAt_none (q := 0) HN5.out (HA6.out ▸ h); omega) (by have := HM9.out; omega) (fun _ x hx => .inl (HX5.out 0 x HBNE.out (HA6.out ▸ hx))) (fun x hx => by simp at hx) (by simp))
  clear hb9 hh9 hsz9 hX5 hbne hw9 hg8 HH8
  go_wp2_with fail
  rw [← HW9.out, ← HG8.out]
  with_reducible refine (HFD2.out).mono ?_
  rintro e w10 ⟨rfl, hH10, hs10, hk10⟩
  have HBT10 := Lib.hid (HBT9.out.kept (X := fun x => x < w5.heap.size ∨ x = g8) (fun hne a ha => .inl (HLT5.out hne a ha)) hk10 hs10)
  have HG10 := Lib.hid ((hk10 g8 (.inr rfl)).trans HG9.out)
  have HNX20 := Lib.hid (hH10.next (fun x hx => HBB.out x (List.mem_of_mem_take (by simpa using hx))) (by rw [List.nil_append, List.length_take]; omega) HNX2.out)
  clear hH10 hs10 hk10 HFD2 HBT9 HG9
  go_wp2_with fail
  with_reducible refine (HNX20.out).mono ?_
  rintro e w11 ⟨A11, c11, rfl, hH11, hO11⟩
  simp only [frm, noFrm, List.length_nil]
  obtain ⟨w12, hw12⟩ : ∃ x, x = w11.alloc (.cells #[.int .i64 0, .int .i64 0, .int .i64 0, .slice A11 0 c11] 30) := ⟨_, rfl⟩
  have hb12 : Below w11.heap.size w11 w12 := by rw [hw12]; exact (Below.refl _ _).alloc (Nat.le_refl _) _
  have HBT12 := Lib.hid ((HBT10.out.kept (X := fun x => x < w5.heap.size ∨ x = g8) (fun hne a ha => .inl (HLT5.out hne a ha)) hO11.kept hO11.size).up hb12)
  have hg11 := (hO11.kept g8 (.inr rfl)).trans HG10.out
  have HG12 := Lib.hid ((hb12.block g8 (lt_of_heapF hg11)).trans hg11)
  have HH12 : Hid (HasP w (fun x => x < w5.heap.size ∨ x = g8) p (R : Int) (b.take 8) w12) := Lib.hid ((hH11.quiet hb12).less (fun x hx => .inl hx))
  have HW12 := Lib.hid hw12
  have HFD3 := Lib.hid (HH12.out.feed A7 ((b.drop 8).take 1) 1 (c5 - 8) (by rw [HA7.out]; exact HBT12.out.mid (by rw [← HNB.out]; exact hcap5)) (fun x hx => HBB.out x (List.mem_of_mem_drop (List.mem_of_mem_take hx))) (by rw [List.length_take, List.length_drop]; have := HM9.out; have := HNB.out; omega) (fun h => by have := cutAt_none (q := 8) HN5.out (HA7.out ▸ h); omega) (by have := HM9.out; omega) (fun _ x hx => .inl (HX5.out 8 x HBNE.out (HA7.out ▸ hx))) (fun x hx => HBB.out x (List.mem_of_mem_take hx)) (by rw [List.length_take]; omega))
  clear hb12 hg11 hw12 hH11 hO11 HNX20 HG10 HBT10
  go_wp2_with fail
  rw [← HW12.out]
  with_reducible refine (HFD3.out).mono ?_
  rintro e w13 ⟨rfl, hH13, hs13, hk13⟩
  have HG13 := Lib.hid ((hk13 g8 (.inr rfl)).trans HG12.out)
  have HNX30 := Lib.hid (hH13.next (fun x hx => by
    rcases List.mem_append.1 hx with h | h
    · exact HBB.out x (List.mem_of_mem_take h)
    · exact HBB.out x (List.mem_of_mem_drop (List.mem_of_mem_take h))) (by rw [List.length_append, List.length_take, List.length_take]; omega) HNX3.out)
  clear hH13 hs13 hk13 HFD3 HG12 HBT12
  go_wp2_with fail
  with_reducible refine (HNX30.out).mono ?_
  rintro e w14 ⟨A14, c14, rfl, hH14, hO14⟩
  simp only [frm, noFrm, List.length_nil]
  obtain ⟨w15, hw15⟩ : ∃ x, x = w14.alloc (.cells #[.int .i64 0, .int .i64 0, .int .i64 0, .slice A14 0 c14] 30) := ⟨_, rfl⟩
  have hb15 : Below w14.heap.size w14 w15 := by rw [hw15]; exact (Below.refl _ _).alloc (Nat.le_refl _) _
  have hg14 := (hO14.kept g8 (.inr rfl)).trans HG13.out
  have hg15 := (hb15.block g8 (lt_of_heapF hg14)).trans hg14
  have hZ15 := hH14.below.trans (hb15.mono hH14.below.size)
  have HG15 := Lib.hid hg15
  have HZ15 := Lib.hid hZ15
  have HW15 := Lib.hid hw15
  have HF15 := Lib.hid (HF.out w15)
  clear hb15 hg14 hg15 hZ15 hw15 hH14 hO14 HNX30 HG13
  go_wp2_with fail
  rw [← HW15.out]
  with_reducible refine (HF15.out).mono ?_
  rintro e w16 ⟨rfl, hb16⟩
  have hg16 := (hb16.block g8 (lt_of_heapF HG15.out)).trans HG15.out
  have y3 : w16.cell? ⟨g8, 3, none⟩ = some (.slice A8 R c8) := cell_of_row _ g8 3 _ 30 _ hg16
  have HZ16 := Lib.hid (HZ15.out.trans (hb16.mono HZ15.out.size))
  clear hb16 hg16 HF15
  go_wp2
  go_ret
  exact ⟨rfl, HZ16.out⟩
theorem walk (room : Int) (w : World) : Calls Try.prog 7 #[.int .i64 room] w (YesF w) := by
  by_cases h : room < 0 ∨ 20000 < room
  · exact walk_not room w h
  · obtain ⟨R, rfl⟩ : ∃ R : Nat, room = (R : Int) := ⟨room.toNat, by omega⟩
    exact walk_in R w (by omega)
end frameRooms
end Go.Proofs.Ytegcloapadippaa
