/- The walk of FramePuts. -/
import Derived.Test.YtegcloapadippaaFEach
namespace Go.Proofs.Ytegcloapadippaa
open Go.RowKit Fr

theorem put_byte {f : Frm} {a : List Nat} {e : Nat} (h : put f = (a, e)) (hb : ∀ x ∈ f.body, x < 256) : ∀ x ∈ a, x < 256 := by
  rcases put_len h with ⟨rfl, _⟩ | ⟨_, rfl⟩
  · obtain ⟨hi, _, rfl⟩ := put_ok h
    simp only [Frm.in_] at hi
    intro x hx
    rcases List.mem_append.1 hx with h | h
    · unfold head at h
      rcases List.mem_append.1 h with h | h
      · exact num_byte _ _ x h
      · rcases List.mem_append.1 h with h | h
        · simp only [List.mem_cons, List.mem_nil_iff, or_false] at h
          rcases h with rfl | rfl <;> omega
        · exact num_byte _ _ x h
    · exact hb x h
  · intro x hx
    simp at hx
theorem rfput_any (s : FrA) (w : World) (h : s.ok w w.heap.size) (hl : s.f.body.length ≤ 90000) : Calls Try.prog 11 #[frm s.f s.ad s.cap] w (FpPost w (put s.f)) := by
  by_cases hi : s.f.in_
  · exact rfput_ok s.f s.ad s.cap w hi (by omega) h.bytes h.at' h.nil h.room
  · exact rfput_range s.f s.ad s.cap w hi
theorem rfsame_ok (s t : FrA) (w : World) (hs : s.ok w w.heap.size) (ht : t.ok w w.heap.size) : Calls Try.prog 14 #[frm s.f s.ad s.cap, frm t.f t.ad t.cap] w (BoolPost w (same s.f t.f)) := rfsame_any s.f t.f s.ad t.ad s.cap t.cap w hs.at' ht.at' hs.bytes ht.bytes
theorem pair8 {a b c d e f g h : Prop} (x : a ∧ b ∧ c ∧ d) (y : e ∧ f ∧ g ∧ h) : a ∧ b ∧ c ∧ d ∧ e ∧ f ∧ g ∧ h := ⟨x.1, x.2.1, x.2.2.1, x.2.2.2, y.1, y.2.1, y.2.2.1, y.2.2.2⟩
namespace framePuts
def FtR (w : World) (n : Nat) (i : Value) (wr : World) : Prop := ∃ k : Nat, k ≤ n ∧ i = .int .i64 (k : Int) ∧ Below w.heap.size w wr
set_option maxRecDepth 100000 in
set_option maxHeartbeats 16000000 in
theorem walk_in (A : Option Addr) (l : List FrA) (n c : Nat) (w : World) (hA : AtR w w.heap.size A l) (hl : l.length = n) (hf : few10 l = true) : Calls Try.prog 3 #[.slice A n c] w (YesF w) := by
  have HFST := Lib.hid fun (W : World) => first10_any W
  have HFEW : Hid (∀ W, Below w.heap.size w W → Calls Try.prog 9 #[.slice A n c] W fun e w' => e = .returned (.bool true) ∧ w' = W) := Lib.hid (fun W hb => by rw [← hf]; exact few10_any A l n c W (hA.up hb) hl)
  obtain ⟨hn, hbod⟩ := few10_true hf
  rw [hl] at hn
  have HA := Lib.hid hA
  have HL := Lib.hid hl
  have HBOD := Lib.hid hbod
  clear hA hl hf hbod
  go_enter Try.func3, Try.ntmps3
  go_wp2_with fail
  with_reducible refine (HFST.out w).mono ?_
  rintro e w1 ⟨rfl, hb1⟩
  have HB1 := Lib.hid hb1
  have HFW := Lib.hid (HFEW.out w1 hb1)
  clear hb1 HFEW
  go_wp2_with fail
  with_reducible refine (HFW.out).mono ?_
  rintro e w2 ⟨rfl, rfl⟩
  clear HFW
  go_wp2
  go_loopw [3] (fun i wr => FtR w n i wr) (fun i _ => n - (intOf i).toNat)
  case atStart => exact ⟨0, Nat.zero_le _, rfl, HB1.out⟩
  case round =>
    obtain ⟨k, hk, rfl, hbw⟩ := hrel
    by_cases hlt : k < n
    · have ki : (k : Int) < (n : Int) := by omega
      have hkl : k < l.length := by have := HL.out; omega
      obtain ⟨b, o, rfl, hb, hc⟩ := HA.out.pos (by omega)
      obtain ⟨⟨d0, d1, d2, d3⟩, hok⟩ := hc k hkl
      have hbl : l[k].f.body.length ≤ 40000 := Nat.le_trans (body_le (List.getElem_mem hkl)) HBOD.out
      obtain ⟨s, hs⟩ : ∃ s, s = l[k] := ⟨_, rfl⟩
      rw [← hs] at d0 d1 d2 d3 hok hbl
      have HX : Hid (∀ W, Below w.heap.size w W → W.cell? ⟨b, o + k * 4, none⟩ = some (.int .i64 s.f.kind) ∧ W.cell? ⟨b, o + k * 4 + 1, none⟩ = some (.int .i64 s.f.flags) ∧ W.cell? ⟨b, o + k * 4 + 2, none⟩ = some (.int .i64 s.f.stream) ∧ W.cell? ⟨b, o + k * 4 + 3, none⟩ = some (.slice s.ad s.f.body.length s.cap)) := Lib.hid (fun W hB => ⟨(hB.cell (p := ⟨b, o + k * 4, none⟩) hb).trans d0, (hB.cell (p := ⟨b, o + k * 4 + 1, none⟩) hb).trans d1, (hB.cell (p := ⟨b, o + k * 4 + 2, none⟩) hb).trans d2, (hB.cell (p := ⟨b, o + k * 4 + 3, none⟩) hb).trans d3⟩)
      have HOK := Lib.hid hok
      obtain ⟨P, hP⟩ : ∃ P, P = put s.f := ⟨_, rfl⟩
      have HPUT : Hid (∀ W, Below w.heap.size w W → Calls Try.prog 10 #[.agg #[.int .i64 s.f.kind, .int .i64 s.f.flags, .int .i64 s.f.stream, .slice s.ad s.f.body.length s.cap]] W (FpPost W P)) := Lib.hid (fun W hB => by rw [hP]; exact fput_f s W (hok.up hB) (by omega))
      have HRPUT : Hid (∀ W, Below w.heap.size w W → Calls Try.prog 11 #[.agg #[.int .i64 s.f.kind, .int .i64 s.f.flags, .int .i64 s.f.stream, .slice s.ad s.f.body.length s.cap]] W (FpPost W P)) := Lib.hid (fun W hB => by rw [hP]; exact rfput_any s W (hok.up hB) (by omega))
      have HSAME : Hid (∀ W, Below w.heap.size w W → Calls Try.prog 13 #[.agg #[.int .i64 s.f.kind, .int .i64 s.f.flags, .int .i64 s.f.stream, .slice s.ad s.f.body.length s.cap], .agg #[.int .i64 s.f.kind, .int .i64 s.f.flags, .int .i64 s.f.stream, .slice s.ad s.f.body.length s.cap]] W (BoolPost W true)) := Lib.hid (fun W hB => by rw [← same_self s.f]; exact fsame_f s s W (hok.up hB) (hok.up hB) (by omega) (by omega))
      -- the frame ahead of it
      have HPRE : Hid (∀ j, k = j + 1 → ∃ t : FrA, ∃ E : Bool, (∀ W, Below w.heap.size w W → W.cell? ⟨b, o + j * 4, none⟩ = some (.int .i64 t.f.kind) ∧ W.cell? ⟨b, o + j * 4 + 1, none⟩ = some (.int .i64 t.f.flags) ∧ W.cell? ⟨b, o + j * 4 + 2, none⟩ = some (.int .i64 t.f.stream) ∧ W.cell? ⟨b, o + j * 4 + 3, none⟩ = some (.slice t.ad t.f.body.length t.cap)) ∧ (∀ W, Below w.heap.size w W → Calls Try.prog 13 #[.agg #[.int .i64 s.f.kind, .int .i64 s.f.flags, .int .i64 s.f.stream, .slice s.ad s.f.body.length s.cap], .agg #[.int .i64 t.f.kind, .int .i64 t.f.flags, .int .i64 t.f.stream, .slice t.ad t.f.body.length t.cap]] W (BoolPost W E)) ∧ (∀ W, Below w.heap.size w W → Calls Try.prog 14 #[.agg #[.int .i64 s.f.kind, .int .i64 s.f.flags, .int .i64 s.f.stream, .slice s.ad s.f.body.length s.cap], .agg #[.int .i64 t.f.kind, .int .i64 t.f.flags, .int .i64 t.f.stream, .slice t.ad t.f.body.length t.cap]] W (BoolPost W E))) := Lib.hid (fun j hj => by
        have hjl : j < l.length := by omega
        obtain ⟨⟨e0, e1, e2, e3⟩, hokj⟩ := hc j hjl
        have hbj : l[j].f.body.length ≤ 40000 := Nat.le_trans (body_le (List.getElem_mem hjl)) HBOD.out
        exact ⟨l[j], same s.f l[j].f, fun W hB => ⟨(hB.cell (p := ⟨b, o + j * 4, none⟩) hb).trans e0, (hB.cell (p := ⟨b, o + j * 4 + 1, none⟩) hb).trans e1, (hB.cell (p := ⟨b, o + j * 4 + 2, none⟩) hb).trans e2, (hB.cell (p := ⟨b, o + j * 4 + 3, none⟩) hb).trans e3⟩, fun W hB => fsame_f s l[j] W (hok.up hB) (hokj.up hB) (by omega) (by omega), fun W hB => rfsame_ok s l[j] W (hok.up hB) (hokj.up hB)⟩)
      obtain ⟨a, err⟩ := P
      have HBY := Lib.hid (put_byte hP.symm hok.bytes)
      obtain ⟨na, hna⟩ : ∃ n, n = a.length := ⟨_, rfl⟩
      have HNA := Lib.hid hna
      obtain ⟨⟨sk, sf, ss, sb⟩, sa, sc⟩ := s
      obtain ⟨m, hm⟩ : ∃ m, m = sb.length := ⟨_, rfl⟩
      simp only [] at HX HPUT HRPUT HSAME HPRE
      rw [← hm] at HX HPUT HRPUT HSAME HPRE
      obtain ⟨x0, x1, x2, x3⟩ := HX.out wr hbw
      have HP1 := Lib.hid (HPUT.out wr hbw)
      have HBW := Lib.hid hbw
      clear d0 d1 d2 d3 hok hbl hs hP hc hb hkl hbw hna hm HPUT
      go_wp2_with fail
      with_reducible refine (HP1.out).mono ?_
      rintro e w3 ⟨A3, c3, rfl, hat3, hn3, hc3, hnew3, hb3⟩
      have hb4 := HBW.out.trans (hb3.mono HBW.out.size)
      have HB3 := Lib.hid hb4
      have HAT3 := Lib.hid hat3
      have HP2 := Lib.hid (HRPUT.out w3 hb4)
      obtain ⟨p0, p1, p2, p3⟩ := HX.out w3 hb4
      clear hat3 hn3 hc3 hnew3 hb3 hb4 x0 x1 x2 x3 HP1 HRPUT
      simp only []
      rw [← HNA.out]
      go_wp2_with fail
      with_reducible refine (HP2.out).mono ?_
      rintro e w4 ⟨A4, c4, rfl, hat4, hn4, hc4, hnew4, hb4⟩
      have hb5 := HB3.out.trans (hb4.mono HB3.out.size)
      have HB4 := Lib.hid hb5
      have HAT34 := Lib.hid (HAT3.out.up hb4)
      have HAT4 := Lib.hid hat4
      obtain ⟨q0, q1, q2, q3⟩ := HX.out w4 hb5
      have hd : Below w4.heap.size w4 w4.drew := (Below.refl _ _).drew
      have HBYT : Hid (Calls Try.prog 12 #[.slice A3 na c3, .slice A4 na c4] w4.drew fun e w' => e = .returned (.bool true) ∧ w' = w4.drew) := Lib.hid (by
        refine (bytes_any A3 A4 a a na na c3 c4 _ _ _ (HAT34.out.up hd) (HAT4.out.up hd) HBY.out HBY.out HNA.out.symm HNA.out.symm).mono (fun e w' hh => ⟨?_, hh.2.symm⟩)
        rw [hh.1, decide_eq_true rfl])
      have HX4 : Hid (∀ W, Below w4.heap.size w4 W → W.cell? ⟨b, o + k * 4, none⟩ = some (.int .i64 sk) ∧ W.cell? ⟨b, o + k * 4 + 1, none⟩ = some (.int .i64 sf) ∧ W.cell? ⟨b, o + k * 4 + 2, none⟩ = some (.int .i64 ss) ∧ W.cell? ⟨b, o + k * 4 + 3, none⟩ = some (.slice sa m sc)) := Lib.hid (fun W hB => HX.out W (hb5.trans (hB.mono hb5.size)))
      have HS4 : Hid (∀ W, Below w4.heap.size w4 W → Calls Try.prog 13 #[.agg #[.int .i64 sk, .int .i64 sf, .int .i64 ss, .slice sa m sc], .agg #[.int .i64 sk, .int .i64 sf, .int .i64 ss, .slice sa m sc]] W (BoolPost W true)) := Lib.hid (fun W hB => HSAME.out W (hb5.trans (hB.mono hb5.size)))
      clear hat4 hn4 hc4 hnew4 hb4 hb5 p0 p1 p2 p3 HP2 HX HSAME HAT34 HAT4 HAT3 HBY
      simp only []
      rw [← HNA.out]
      rcases Nat.eq_zero_or_pos k with h0 | h0
      · subst h0
        clear HPRE
        simp only [Nat.zero_mul, Nat.add_zero] at q0 q1 q2 q3 HX4
        rw [show ((0 : Nat) : Int) = 0 from rfl] at ki ⊢
        go_wp2
        refine wp_region_held_drew (S := fun w' => w'.cell? ⟨b, o, none⟩ = some (.int .i64 sk) ∧ w'.cell? ⟨b, o + 1, none⟩ = some (.int .i64 sf) ∧ w'.cell? ⟨b, o + 2, none⟩ = some (.int .i64 ss) ∧ w'.cell? ⟨b, o + 3, none⟩ = some (.slice sa m sc)) (by kernel_rfl) ⟨q0, q1, q2, q3⟩ (fun hHeld => ?_)
        refine wpAnyH_take (i := 0) (v := ?_) rfl (by kernel_rfl) (by kernel_rfl) (by kernel_rfl) (fun _ _ _ h => h) (Or.inl ⟨by rfl, ?_⟩) hHeld ?_
        rotate_left
        · intro w hSw
          try dsimp only at hSw
          go_simp
          try with_reducible rfl
        change wpAnyH _ _ _ _ _ _ _ (Act.put _ (some 36) _) _
        simp only [Act.put, List.setIfInBounds_toArray, List.set_cons_zero, List.set_cons_succ]
        refine wpAnyH_take (i := 1) (v := ?_) rfl (by kernel_rfl) (by kernel_rfl) (by kernel_rfl) (fun _ _ _ h => h) (Or.inl ⟨by rfl, ?_⟩) hHeld ?_
        rotate_left
        · intro w hSw
          try dsimp only at hSw
          go_simp
          try with_reducible rfl
        change wpAnyH _ _ _ _ _ _ _ (Act.put _ (some 37) _) _
        simp only [Act.put, List.setIfInBounds_toArray, List.set_cons_zero, List.set_cons_succ]
        refine wpAnyH_take (i := 2) (v := ?_) rfl (by kernel_rfl) (by kernel_rfl) (by kernel_rfl) (fun _ _ _ h => h) (Or.inl ⟨by rfl, ?_⟩) hHeld ?_
        rotate_left
        · intro w hSw
          try dsimp only at hSw
          go_simp
          try with_reducible rfl
        change wpAnyH _ _ _ _ _ _ _ (Act.put _ (some 38) _) _
        simp only [Act.put, List.setIfInBounds_toArray, List.set_cons_zero, List.set_cons_succ]
        refine wpAnyH_take (i := 3) (v := ?_) rfl (by kernel_rfl) (by kernel_rfl) (by kernel_rfl) (fun _ _ _ h => h) (Or.inl ⟨by rfl, ?_⟩) hHeld ?_
        rotate_left
        · intro w hSw
          try dsimp only at hSw
          go_simp
          try with_reducible rfl
        change wpAnyH _ _ _ _ _ _ _ (Act.put _ (some 39) _) _
        simp only [Act.put, List.setIfInBounds_toArray, List.set_cons_zero, List.set_cons_succ]
        refine wpAnyH_take (i := 4) (v := ?_) rfl (by kernel_rfl) (by kernel_rfl) (by kernel_rfl) (fun _ _ _ h => h) (Or.inl ⟨by rfl, ?_⟩) hHeld ?_
        rotate_left
        · intro w hSw
          try dsimp only at hSw
          go_simp
          try with_reducible rfl
        change wpAnyH _ _ _ _ _ _ _ (Act.put _ (some 40) _) _
        simp only [Act.put, List.setIfInBounds_toArray, List.set_cons_zero, List.set_cons_succ]
        refine wpAnyH_take (i := 5) (v := ?_) rfl (by kernel_rfl) (by kernel_rfl) (by kernel_rfl) (fun _ _ _ h => h) (Or.inl ⟨by rfl, ?_⟩) hHeld ?_
        rotate_left
        · intro w hSw
          try dsimp only at hSw
          go_simp
          try with_reducible rfl
        change wpAnyH _ _ _ _ _ _ _ (Act.put _ (some 41) _) _
        simp only [Act.put, List.setIfInBounds_toArray, List.set_cons_zero, List.set_cons_succ]
        refine wpAnyH_ready (rs := [6]) (by kernel_rfl) (by simp) ?_
        refine AllReadyH.cons rfl (fun K hK => ?_) AllReadyH.nil
        go_simp
        with_reducible refine (HBYT.out).mono ?_
        rintro e w' ⟨rfl, rfl⟩
        refine hK.out _ _ (HX4.out _ hd) (fun hHeld => ?_)
        clear hK K
        refine wpAnyH_take (i := 7) (v := ?_) rfl (by kernel_rfl) (by kernel_rfl) (by kernel_rfl) (fun _ _ _ h => h) (Or.inl ⟨by rfl, ?_⟩) hHeld ?_
        rotate_left
        · intro w hSw
          try dsimp only at hSw
          go_simp
          try with_reducible rfl
        change wpAnyH _ _ _ _ _ _ _ (Act.put _ (some 43) _) _
        simp only [Act.put, List.setIfInBounds_toArray, List.set_cons_zero, List.set_cons_succ]
        refine wpAnyH_take (i := 8) (v := ?_) rfl (by kernel_rfl) (by kernel_rfl) (by kernel_rfl) (fun _ _ _ h => h) (Or.inl ⟨by rfl, ?_⟩) hHeld ?_
        rotate_left
        · intro w hSw
          try dsimp only at hSw
          go_simp
          try with_reducible rfl
        change wpAnyH _ _ _ _ _ _ _ (Act.put _ (some 44) _) _
        simp only [Act.put, List.setIfInBounds_toArray, List.set_cons_zero, List.set_cons_succ]
        refine wpAnyH_take (i := 9) (v := ?_) rfl (by kernel_rfl) (by kernel_rfl) (by kernel_rfl) (fun _ _ _ h => h) (Or.inl ⟨by rfl, ?_⟩) hHeld ?_
        rotate_left
        · intro w hSw
          try dsimp only at hSw
          go_simp
          try with_reducible rfl
        change wpAnyH _ _ _ _ _ _ _ (Act.put _ (some 45) _) _
        simp only [Act.put, List.setIfInBounds_toArray, List.set_cons_zero, List.set_cons_succ]
        refine wpAnyH_take (i := 10) (v := ?_) rfl (by kernel_rfl) (by kernel_rfl) (by kernel_rfl) (fun _ _ _ h => h) (Or.inl ⟨by rfl, ?_⟩) hHeld ?_
        rotate_left
        · intro w hSw
          try dsimp only at hSw
          go_simp
          try with_reducible rfl
        change wpAnyH _ _ _ _ _ _ _ (Act.put _ (some 46) _) _
        simp only [Act.put, List.setIfInBounds_toArray, List.set_cons_zero, List.set_cons_succ]
        refine wpAnyH_take (i := 11) (v := ?_) rfl (by kernel_rfl) (by kernel_rfl) (by kernel_rfl) (fun _ _ _ h => h) (Or.inl ⟨by rfl, ?_⟩) hHeld ?_
        rotate_left
        · intro w hSw
          try dsimp only at hSw
          go_simp
          try with_reducible rfl
        change wpAnyH _ _ _ _ _ _ _ (Act.put _ (some 47) _) _
        simp only [Act.put, List.setIfInBounds_toArray, List.set_cons_zero, List.set_cons_succ]
        refine wpAnyH_take (i := 12) (v := ?_) rfl (by kernel_rfl) (by kernel_rfl) (by kernel_rfl) (fun _ _ _ h => h) (Or.inl ⟨by rfl, ?_⟩) hHeld ?_
        rotate_left
        · intro w hSw
          try dsimp only at hSw
          go_simp
          try with_reducible rfl
        change wpAnyH _ _ _ _ _ _ _ (Act.put _ (some 48) _) _
        simp only [Act.put, List.setIfInBounds_toArray, List.set_cons_zero, List.set_cons_succ]
        refine wpAnyH_take (i := 13) (v := ?_) rfl (by kernel_rfl) (by kernel_rfl) (by kernel_rfl) (fun _ _ _ h => h) (Or.inl ⟨by rfl, ?_⟩) hHeld ?_
        rotate_left
        · intro w hSw
          try dsimp only at hSw
          go_simp
          try with_reducible rfl
        change wpAnyH _ _ _ _ _ _ _ (Act.put _ (some 49) _) _
        simp only [Act.put, List.setIfInBounds_toArray, List.set_cons_zero, List.set_cons_succ]
        refine wpAnyH_take (i := 14) (v := ?_) rfl (by kernel_rfl) (by kernel_rfl) (by kernel_rfl) (fun _ _ _ h => h) (Or.inl ⟨by rfl, ?_⟩) hHeld ?_
        rotate_left
        · intro w hSw
          try dsimp only at hSw
          go_simp
          try with_reducible rfl
        change wpAnyH _ _ _ _ _ _ _ (Act.put _ (some 50) _) _
        simp only [Act.put, List.setIfInBounds_toArray, List.set_cons_zero, List.set_cons_succ]
        refine wpAnyH_take (i := 15) (v := ?_) rfl (by kernel_rfl) (by kernel_rfl) (by kernel_rfl) (fun _ _ _ h => h) (Or.inl ⟨by rfl, ?_⟩) hHeld ?_
        rotate_left
        · intro w hSw
          try dsimp only at hSw
          go_simp
          try with_reducible rfl
        change wpAnyH _ _ _ _ _ _ _ (Act.put _ (some 51) _) _
        simp only [Act.put, List.setIfInBounds_toArray, List.set_cons_zero, List.set_cons_succ]
        refine wpAnyH_take (i := 16) (v := ?_) rfl (by kernel_rfl) (by kernel_rfl) (by kernel_rfl) (fun _ _ _ h => h) (Or.inl ⟨by rfl, ?_⟩) hHeld ?_
        rotate_left
        · intro w hSw
          try dsimp only at hSw
          go_simp
          try with_reducible rfl
        change wpAnyH _ _ _ _ _ _ _ (Act.put _ (some 52) _) _
        simp only [Act.put, List.setIfInBounds_toArray, List.set_cons_zero, List.set_cons_succ]
        refine wpAnyH_take (i := 17) (v := ?_) rfl (by kernel_rfl) (by kernel_rfl) (by kernel_rfl) (fun _ _ _ h => h) (Or.inl ⟨by rfl, ?_⟩) hHeld ?_
        rotate_left
        · intro w hSw
          try dsimp only at hSw
          go_simp
          try with_reducible rfl
        change wpAnyH _ _ _ _ _ _ _ (Act.put _ (some 53) _) _
        simp only [Act.put, List.setIfInBounds_toArray, List.set_cons_zero, List.set_cons_succ]
        refine wpAnyH_ready (rs := [18]) (by kernel_rfl) (by simp) ?_
        refine AllReadyH.cons rfl (fun K hK => ?_) AllReadyH.nil
        go_simp
        with_reducible refine (HS4.out _ hd).mono ?_
        rintro e w6 ⟨rfl, hb6'⟩
        have hb6 := hd.trans (hb6'.mono hd.size)
        refine hK.out _ _ (HX4.out _ hb6) (fun hHeld => ?_)
        clear hK K
        refine wpAnyH_take (i := 19) (v := ?_) rfl (by kernel_rfl) (by kernel_rfl) (by kernel_rfl) (fun _ _ _ h => h) (Or.inl ⟨by rfl, ?_⟩) hHeld ?_
        rotate_left
        · intro w hSw
          try dsimp only at hSw
          go_simp
          try with_reducible rfl
        change wpAnyH _ _ _ _ _ _ _ (Act.put _ (some 55) _) _
        simp only [Act.put, List.setIfInBounds_toArray, List.set_cons_zero, List.set_cons_succ]
        refine wpAnyH_take (i := 20) (v := ?_) rfl (by kernel_rfl) (by kernel_rfl) (by kernel_rfl) (fun _ _ _ h => h) (Or.inl ⟨by rfl, ?_⟩) hHeld ?_
        rotate_left
        · intro w hSw
          try dsimp only at hSw
          go_simp
          try with_reducible rfl
        change wpAnyH _ _ _ _ _ _ _ (Act.put _ (some 56) _) _
        simp only [Act.put, List.setIfInBounds_toArray, List.set_cons_zero, List.set_cons_succ]
        refine wpAnyH_take (i := 21) (v := ?_) rfl (by kernel_rfl) (by kernel_rfl) (by kernel_rfl) (fun _ _ _ h => h) (Or.inl ⟨by rfl, ?_⟩) hHeld ?_
        rotate_left
        · intro w hSw
          try dsimp only at hSw
          go_simp
          try with_reducible rfl
        change wpAnyH _ _ _ _ _ _ _ (Act.put _ (some 57) _) _
        simp only [Act.put, List.setIfInBounds_toArray, List.set_cons_zero, List.set_cons_succ]
        refine wpAnyH_take (i := 22) (v := ?_) rfl (by kernel_rfl) (by kernel_rfl) (by kernel_rfl) (fun _ _ _ h => h) (Or.inl ⟨by rfl, ?_⟩) hHeld ?_
        rotate_left
        · intro w hSw
          try dsimp only at hSw
          go_simp
          try with_reducible rfl
        change wpAnyH _ _ _ _ _ _ _ (Act.put _ (some 58) _) _
        simp only [Act.put, List.setIfInBounds_toArray, List.set_cons_zero, List.set_cons_succ]
        refine wpAnyH_take (i := 23) (v := ?_) rfl (by kernel_rfl) (by kernel_rfl) (by kernel_rfl) (fun _ _ _ h => h) (Or.inl ⟨by rfl, ?_⟩) hHeld ?_
        rotate_left
        · intro w hSw
          try dsimp only at hSw
          go_simp
          try with_reducible rfl
        change wpAnyH _ _ _ _ _ _ _ (Act.put _ (some 59) _) _
        simp only [Act.put, List.setIfInBounds_toArray, List.set_cons_zero, List.set_cons_succ]
        refine wpAnyH_take (i := 24) (v := ?_) rfl (by kernel_rfl) (by kernel_rfl) (by kernel_rfl) (fun _ _ _ h => h) (Or.inl ⟨by rfl, ?_⟩) hHeld ?_
        rotate_left
        · intro w hSw
          try dsimp only at hSw
          go_simp
          try with_reducible rfl
        change wpAnyH _ _ _ _ _ _ _ (Act.put _ (some 60) _) _
        simp only [Act.put, List.setIfInBounds_toArray, List.set_cons_zero, List.set_cons_succ]
        refine wpAnyH_take (i := 25) (v := undef) rfl (by kernel_rfl) (by kernel_rfl) (by kernel_rfl) (fun _ _ _ h => h) (Or.inr ⟨by rfl, rfl⟩) hHeld ?_
        change wpAnyH _ _ _ _ _ _ _ (Act.put _ (some 61) _) _
        simp only [Act.put, List.setIfInBounds_toArray, List.set_cons_zero, List.set_cons_succ]
        refine wpAnyH_take (i := 26) (v := undef) rfl (by kernel_rfl) (by kernel_rfl) (by kernel_rfl) (fun _ _ _ h => h) (Or.inr ⟨by rfl, rfl⟩) hHeld ?_
        change wpAnyH _ _ _ _ _ _ _ (Act.put _ (some 62) _) _
        simp only [Act.put, List.setIfInBounds_toArray, List.set_cons_zero, List.set_cons_succ]
        refine wpAnyH_take (i := 27) (v := undef) rfl (by kernel_rfl) (by kernel_rfl) (by kernel_rfl) (fun _ _ _ h => h) (Or.inr ⟨by rfl, rfl⟩) hHeld ?_
        change wpAnyH _ _ _ _ _ _ _ (Act.put _ (some 63) _) _
        simp only [Act.put, List.setIfInBounds_toArray, List.set_cons_zero, List.set_cons_succ]
        refine wpAnyH_take (i := 28) (v := undef) rfl (by kernel_rfl) (by kernel_rfl) (by kernel_rfl) (fun _ _ _ h => h) (Or.inr ⟨by rfl, rfl⟩) hHeld ?_
        change wpAnyH _ _ _ _ _ _ _ (Act.put _ (some 64) _) _
        simp only [Act.put, List.setIfInBounds_toArray, List.set_cons_zero, List.set_cons_succ]
        refine wpAnyH_take (i := 29) (v := undef) rfl (by kernel_rfl) (by kernel_rfl) (by kernel_rfl) (fun _ _ _ h => h) (Or.inr ⟨by rfl, rfl⟩) hHeld ?_
        change wpAnyH _ _ _ _ _ _ _ (Act.put _ (some 65) _) _
        simp only [Act.put, List.setIfInBounds_toArray, List.set_cons_zero, List.set_cons_succ]
        refine wpAnyH_take (i := 30) (v := undef) rfl (by kernel_rfl) (by kernel_rfl) (by kernel_rfl) (fun _ _ _ h => h) (Or.inr ⟨by rfl, rfl⟩) hHeld ?_
        change wpAnyH _ _ _ _ _ _ _ (Act.put _ (some 66) _) _
        simp only [Act.put, List.setIfInBounds_toArray, List.set_cons_zero, List.set_cons_succ]
        refine wpAnyH_take (i := 31) (v := undef) rfl (by kernel_rfl) (by kernel_rfl) (by kernel_rfl) (fun _ _ _ h => h) (Or.inr ⟨by rfl, rfl⟩) hHeld ?_
        change wpAnyH _ _ _ _ _ _ _ (Act.put _ (some 67) _) _
        simp only [Act.put, List.setIfInBounds_toArray, List.set_cons_zero, List.set_cons_succ]
        refine wpAnyH_take (i := 32) (v := undef) rfl (by kernel_rfl) (by kernel_rfl) (by kernel_rfl) (fun _ _ _ h => h) (Or.inr ⟨by rfl, rfl⟩) hHeld ?_
        change wpAnyH _ _ _ _ _ _ _ (Act.put _ (some 68) _) _
        simp only [Act.put, List.setIfInBounds_toArray, List.set_cons_zero, List.set_cons_succ]
        refine wpAnyH_take (i := 33) (v := undef) rfl (by kernel_rfl) (by kernel_rfl) (by kernel_rfl) (fun _ _ _ h => h) (Or.inr ⟨by rfl, rfl⟩) hHeld ?_
        change wpAnyH _ _ _ _ _ _ _ (Act.put _ (some 69) _) _
        simp only [Act.put, List.setIfInBounds_toArray, List.set_cons_zero, List.set_cons_succ]
        refine wpAnyH_take (i := 34) (v := undef) rfl (by kernel_rfl) (by kernel_rfl) (by kernel_rfl) (fun _ _ _ h => h) (Or.inr ⟨by rfl, rfl⟩) hHeld ?_
        change wpAnyH _ _ _ _ _ _ _ (Act.put _ (some 70) _) _
        simp only [Act.put, List.setIfInBounds_toArray, List.set_cons_zero, List.set_cons_succ]
        refine wpAnyH_take (i := 35) (v := undef) rfl (by kernel_rfl) (by kernel_rfl) (by kernel_rfl) (fun _ _ _ h => h) (Or.inr ⟨by rfl, rfl⟩) hHeld ?_
        change wpAnyH _ _ _ _ _ _ _ (Act.put _ (some 71) _) _
        simp only [Act.put, List.setIfInBounds_toArray, List.set_cons_zero, List.set_cons_succ]
        refine wpAnyH_take (i := 36) (v := undef) rfl (by kernel_rfl) (by kernel_rfl) (by kernel_rfl) (fun _ _ _ h => h) (Or.inr ⟨by rfl, rfl⟩) hHeld ?_
        change wpAnyH _ _ _ _ _ _ _ (Act.put _ (some 72) _) _
        simp only [Act.put, List.setIfInBounds_toArray, List.set_cons_zero, List.set_cons_succ]
        refine wpAnyH_take (i := 37) (v := undef) rfl (by kernel_rfl) (by kernel_rfl) (by kernel_rfl) (fun _ _ _ h => h) (Or.inr ⟨by rfl, rfl⟩) hHeld ?_
        change wpAnyH _ _ _ _ _ _ _ (Act.put _ (some 73) _) _
        simp only [Act.put, List.setIfInBounds_toArray, List.set_cons_zero, List.set_cons_succ]
        refine wpAnyH_take (i := 38) (v := undef) rfl (by kernel_rfl) (by kernel_rfl) (by kernel_rfl) (fun _ _ _ h => h) (Or.inr ⟨by rfl, rfl⟩) hHeld ?_
        change wpAnyH _ _ _ _ _ _ _ (Act.put _ (some 74) _) _
        simp only [Act.put, List.setIfInBounds_toArray, List.set_cons_zero, List.set_cons_succ]
        refine wpAnyH_take (i := 39) (v := undef) rfl (by kernel_rfl) (by kernel_rfl) (by kernel_rfl) (fun _ _ _ h => h) (Or.inr ⟨by rfl, rfl⟩) hHeld ?_
        change wpAnyH _ _ _ _ _ _ _ (Act.put _ (some 75) _) _
        simp only [Act.put, List.setIfInBounds_toArray, List.set_cons_zero, List.set_cons_succ]
        refine wpAnyH_take (i := 40) (v := undef) rfl (by kernel_rfl) (by kernel_rfl) (by kernel_rfl) (fun _ _ _ h => h) (Or.inr ⟨by rfl, rfl⟩) hHeld ?_
        change wpAnyH _ _ _ _ _ _ _ (Act.put _ (some 76) _) _
        simp only [Act.put, List.setIfInBounds_toArray, List.set_cons_zero, List.set_cons_succ]
        refine wpAnyH_take (i := 41) (v := undef) rfl (by kernel_rfl) (by kernel_rfl) (by kernel_rfl) (fun _ _ _ h => h) (Or.inr ⟨by rfl, rfl⟩) hHeld ?_
        change wpAnyH _ _ _ _ _ _ _ (Act.put _ (some 77) _) _
        simp only [Act.put, List.setIfInBounds_toArray, List.set_cons_zero, List.set_cons_succ]
        refine wpAnyH_take (i := 42) (v := undef) rfl (by kernel_rfl) (by kernel_rfl) (by kernel_rfl) (fun _ _ _ h => h) (Or.inr ⟨by rfl, rfl⟩) hHeld ?_
        change wpAnyH _ _ _ _ _ _ _ (Act.put _ (some 78) _) _
        simp only [Act.put, List.setIfInBounds_toArray, List.set_cons_zero, List.set_cons_succ]
        refine wpAnyH_take (i := 43) (v := undef) rfl (by kernel_rfl) (by kernel_rfl) (by kernel_rfl) (fun _ _ _ h => h) (Or.inr ⟨by rfl, rfl⟩) hHeld ?_
        change wpAnyH _ _ _ _ _ _ _ (Act.put _ (some 79) _) _
        simp only [Act.put, List.setIfInBounds_toArray, List.set_cons_zero, List.set_cons_succ]
        refine wpAnyH_take (i := 44) (v := undef) rfl (by kernel_rfl) (by kernel_rfl) (by kernel_rfl) (fun _ _ _ h => h) (Or.inr ⟨by rfl, rfl⟩) hHeld ?_
        change wpAnyH _ _ _ _ _ _ _ (Act.put _ (some 80) _) _
        simp only [Act.put, List.setIfInBounds_toArray, List.set_cons_zero, List.set_cons_succ]
        refine wpAnyH_take (i := 45) (v := undef) rfl (by kernel_rfl) (by kernel_rfl) (by kernel_rfl) (fun _ _ _ h => h) (Or.inr ⟨by rfl, rfl⟩) hHeld ?_
        change wpAnyH _ _ _ _ _ _ _ (Act.put _ (some 81) _) _
        simp only [Act.put, List.setIfInBounds_toArray, List.set_cons_zero, List.set_cons_succ]
        refine wpAnyH_take (i := 46) (v := ?_) rfl (by kernel_rfl) (by kernel_rfl) (by kernel_rfl) (fun _ _ _ h => h) (Or.inl ⟨by rfl, ?_⟩) hHeld ?_
        rotate_left
        · intro w hSw
          try dsimp only at hSw
          go_simp
          try with_reducible rfl
        change wpAnyH _ _ _ _ _ _ _ (Act.put _ (some 82) _) _
        simp only [Act.put, List.setIfInBounds_toArray, List.set_cons_zero, List.set_cons_succ]
        refine wpAnyH_take (i := 47) (v := ?_) rfl (by kernel_rfl) (by kernel_rfl) (by kernel_rfl) (fun _ _ _ h => h) (Or.inl ⟨by rfl, ?_⟩) hHeld ?_
        rotate_left
        · intro w hSw
          try dsimp only at hSw
          go_simp
          try with_reducible rfl
        change wpAnyH _ _ _ _ _ _ _ (Act.put _ (some 83) _) _
        simp only [Act.put, List.setIfInBounds_toArray, List.set_cons_zero, List.set_cons_succ]
        refine wpAnyH_done (by kernel_rfl) ?_ _
        have HZ := Lib.hid (HB4.out.trans (hb6.mono HB4.out.size))
        clear hb6 hb6' q0 q1 q2 q3 hd
        go_wp2
        go_roundw
        case rel => exact ⟨1, by omega, by go_num, HZ.out⟩
        case measure => simp [intOf]; omega
      · obtain ⟨j, rfl⟩ : ∃ j, k = j + 1 := ⟨k - 1, by omega⟩
        obtain ⟨t, E, ht1, ht2, ht3⟩ := HPRE.out j rfl
        obtain ⟨⟨tk, tf, ts, tb⟩, ta, tc⟩ := t
        obtain ⟨m2, hm2⟩ : ∃ m, m = tb.length := ⟨_, rfl⟩
        simp only [] at ht1 ht2 ht3
        rw [← hm2] at ht1 ht2 ht3
        have HY4 : Hid (∀ W, Below w4.heap.size w4 W → W.cell? ⟨b, o + j * 4, none⟩ = some (.int .i64 tk) ∧ W.cell? ⟨b, o + j * 4 + 1, none⟩ = some (.int .i64 tf) ∧ W.cell? ⟨b, o + j * 4 + 2, none⟩ = some (.int .i64 ts) ∧ W.cell? ⟨b, o + j * 4 + 3, none⟩ = some (.slice ta m2 tc)) := Lib.hid (fun W hB => ht1 W (HB4.out.trans (hB.mono HB4.out.size)))
        have HS5 : Hid (∀ W, Below w4.heap.size w4 W → Calls Try.prog 13 #[.agg #[.int .i64 sk, .int .i64 sf, .int .i64 ss, .slice sa m sc], .agg #[.int .i64 tk, .int .i64 tf, .int .i64 ts, .slice ta m2 tc]] W (BoolPost W E)) := Lib.hid (fun W hB => ht2 W (HB4.out.trans (hB.mono HB4.out.size)))
        have HS6 : Hid (∀ W, Below w4.heap.size w4 W → Calls Try.prog 14 #[.agg #[.int .i64 sk, .int .i64 sf, .int .i64 ss, .slice sa m sc], .agg #[.int .i64 tk, .int .i64 tf, .int .i64 ts, .slice ta m2 tc]] W (BoolPost W E)) := Lib.hid (fun W hB => ht3 W (HB4.out.trans (hB.mono HB4.out.size)))
        obtain ⟨K, hK⟩ : ∃ K, K = j + 1 := ⟨_, rfl⟩
        have e1 : (K : Int) - 1 = (j : Int) := by omega
        have k0 : (0 : Int) < (K : Int) := by omega
        have j0 : (0 : Int) ≤ (j : Int) := by omega
        have jn : (j : Int) < (n : Int) := by omega
        have ejw : IntKind.i64.wrap (j : Int) = (j : Int) := i64_ofNat j (by omega)
        rw [← hK] at ki hlt hk q0 q1 q2 q3 HX4 ⊢
        obtain ⟨y0, y1, y2, y3⟩ := HY4.out w4 (Below.refl _ _)
        have HK := Lib.hid hK
        clear ht1 ht2 ht3 hm2 HPRE hK h0
        go_wp2
        refine wp_region_held_drew (S := fun w' => w'.cell? ⟨b, o + K * 4, none⟩ = some (.int .i64 sk) ∧ w'.cell? ⟨b, o + K * 4 + 1, none⟩ = some (.int .i64 sf) ∧ w'.cell? ⟨b, o + K * 4 + 2, none⟩ = some (.int .i64 ss) ∧ w'.cell? ⟨b, o + K * 4 + 3, none⟩ = some (.slice sa m sc) ∧ w'.cell? ⟨b, o + j * 4, none⟩ = some (.int .i64 tk) ∧ w'.cell? ⟨b, o + j * 4 + 1, none⟩ = some (.int .i64 tf) ∧ w'.cell? ⟨b, o + j * 4 + 2, none⟩ = some (.int .i64 ts) ∧ w'.cell? ⟨b, o + j * 4 + 3, none⟩ = some (.slice ta m2 tc)) (by kernel_rfl) ⟨q0, q1, q2, q3, y0, y1, y2, y3⟩ (fun hHeld => ?_)
        refine wpAnyH_take (i := 0) (v := ?_) rfl (by kernel_rfl) (by kernel_rfl) (by kernel_rfl) (fun _ _ _ h => h) (Or.inl ⟨by rfl, ?_⟩) hHeld ?_
        rotate_left
        · intro w hSw
          try dsimp only at hSw
          go_simp
          try with_reducible rfl
        change wpAnyH _ _ _ _ _ _ _ (Act.put _ (some 36) _) _
        simp only [Act.put, List.setIfInBounds_toArray, List.set_cons_zero, List.set_cons_succ]
        refine wpAnyH_take (i := 1) (v := ?_) rfl (by kernel_rfl) (by kernel_rfl) (by kernel_rfl) (fun _ _ _ h => h) (Or.inl ⟨by rfl, ?_⟩) hHeld ?_
        rotate_left
        · intro w hSw
          try dsimp only at hSw
          go_simp
          try with_reducible rfl
        change wpAnyH _ _ _ _ _ _ _ (Act.put _ (some 37) _) _
        simp only [Act.put, List.setIfInBounds_toArray, List.set_cons_zero, List.set_cons_succ]
        refine wpAnyH_take (i := 2) (v := ?_) rfl (by kernel_rfl) (by kernel_rfl) (by kernel_rfl) (fun _ _ _ h => h) (Or.inl ⟨by rfl, ?_⟩) hHeld ?_
        rotate_left
        · intro w hSw
          try dsimp only at hSw
          go_simp
          try with_reducible rfl
        change wpAnyH _ _ _ _ _ _ _ (Act.put _ (some 38) _) _
        simp only [Act.put, List.setIfInBounds_toArray, List.set_cons_zero, List.set_cons_succ]
        refine wpAnyH_take (i := 3) (v := ?_) rfl (by kernel_rfl) (by kernel_rfl) (by kernel_rfl) (fun _ _ _ h => h) (Or.inl ⟨by rfl, ?_⟩) hHeld ?_
        rotate_left
        · intro w hSw
          try dsimp only at hSw
          go_simp
          try with_reducible rfl
        change wpAnyH _ _ _ _ _ _ _ (Act.put _ (some 39) _) _
        simp only [Act.put, List.setIfInBounds_toArray, List.set_cons_zero, List.set_cons_succ]
        refine wpAnyH_take (i := 4) (v := ?_) rfl (by kernel_rfl) (by kernel_rfl) (by kernel_rfl) (fun _ _ _ h => h) (Or.inl ⟨by rfl, ?_⟩) hHeld ?_
        rotate_left
        · intro w hSw
          try dsimp only at hSw
          go_simp
          try with_reducible rfl
        change wpAnyH _ _ _ _ _ _ _ (Act.put _ (some 40) _) _
        simp only [Act.put, List.setIfInBounds_toArray, List.set_cons_zero, List.set_cons_succ]
        refine wpAnyH_take (i := 5) (v := ?_) rfl (by kernel_rfl) (by kernel_rfl) (by kernel_rfl) (fun _ _ _ h => h) (Or.inl ⟨by rfl, ?_⟩) hHeld ?_
        rotate_left
        · intro w hSw
          try dsimp only at hSw
          go_simp
          try with_reducible rfl
        change wpAnyH _ _ _ _ _ _ _ (Act.put _ (some 41) _) _
        simp only [Act.put, List.setIfInBounds_toArray, List.set_cons_zero, List.set_cons_succ]
        refine wpAnyH_ready (rs := [6]) (by kernel_rfl) (by simp) ?_
        refine AllReadyH.cons rfl (fun K hK => ?_) AllReadyH.nil
        go_simp
        with_reducible refine (HBYT.out).mono ?_
        rintro e w' ⟨rfl, rfl⟩
        refine hK.out _ _ (pair8 (HX4.out _ hd) (HY4.out _ hd)) (fun hHeld => ?_)
        clear hK K
        refine wpAnyH_take (i := 7) (v := ?_) rfl (by kernel_rfl) (by kernel_rfl) (by kernel_rfl) (fun _ _ _ h => h) (Or.inl ⟨by rfl, ?_⟩) hHeld ?_
        rotate_left
        · intro w hSw
          try dsimp only at hSw
          go_simp
          try with_reducible rfl
        change wpAnyH _ _ _ _ _ _ _ (Act.put _ (some 43) _) _
        simp only [Act.put, List.setIfInBounds_toArray, List.set_cons_zero, List.set_cons_succ]
        refine wpAnyH_take (i := 8) (v := ?_) rfl (by kernel_rfl) (by kernel_rfl) (by kernel_rfl) (fun _ _ _ h => h) (Or.inl ⟨by rfl, ?_⟩) hHeld ?_
        rotate_left
        · intro w hSw
          try dsimp only at hSw
          go_simp
          try with_reducible rfl
        change wpAnyH _ _ _ _ _ _ _ (Act.put _ (some 44) _) _
        simp only [Act.put, List.setIfInBounds_toArray, List.set_cons_zero, List.set_cons_succ]
        refine wpAnyH_take (i := 9) (v := ?_) rfl (by kernel_rfl) (by kernel_rfl) (by kernel_rfl) (fun _ _ _ h => h) (Or.inl ⟨by rfl, ?_⟩) hHeld ?_
        rotate_left
        · intro w hSw
          try dsimp only at hSw
          go_simp
          try with_reducible rfl
        change wpAnyH _ _ _ _ _ _ _ (Act.put _ (some 45) _) _
        simp only [Act.put, List.setIfInBounds_toArray, List.set_cons_zero, List.set_cons_succ]
        refine wpAnyH_take (i := 10) (v := ?_) rfl (by kernel_rfl) (by kernel_rfl) (by kernel_rfl) (fun _ _ _ h => h) (Or.inl ⟨by rfl, ?_⟩) hHeld ?_
        rotate_left
        · intro w hSw
          try dsimp only at hSw
          go_simp
          try with_reducible rfl
        change wpAnyH _ _ _ _ _ _ _ (Act.put _ (some 46) _) _
        simp only [Act.put, List.setIfInBounds_toArray, List.set_cons_zero, List.set_cons_succ]
        refine wpAnyH_take (i := 11) (v := ?_) rfl (by kernel_rfl) (by kernel_rfl) (by kernel_rfl) (fun _ _ _ h => h) (Or.inl ⟨by rfl, ?_⟩) hHeld ?_
        rotate_left
        · intro w hSw
          try dsimp only at hSw
          go_simp
          try with_reducible rfl
        change wpAnyH _ _ _ _ _ _ _ (Act.put _ (some 47) _) _
        simp only [Act.put, List.setIfInBounds_toArray, List.set_cons_zero, List.set_cons_succ]
        refine wpAnyH_take (i := 12) (v := ?_) rfl (by kernel_rfl) (by kernel_rfl) (by kernel_rfl) (fun _ _ _ h => h) (Or.inl ⟨by rfl, ?_⟩) hHeld ?_
        rotate_left
        · intro w hSw
          try dsimp only at hSw
          go_simp
          try with_reducible rfl
        change wpAnyH _ _ _ _ _ _ _ (Act.put _ (some 48) _) _
        simp only [Act.put, List.setIfInBounds_toArray, List.set_cons_zero, List.set_cons_succ]
        refine wpAnyH_take (i := 13) (v := ?_) rfl (by kernel_rfl) (by kernel_rfl) (by kernel_rfl) (fun _ _ _ h => h) (Or.inl ⟨by rfl, ?_⟩) hHeld ?_
        rotate_left
        · intro w hSw
          try dsimp only at hSw
          go_simp
          try with_reducible rfl
        change wpAnyH _ _ _ _ _ _ _ (Act.put _ (some 49) _) _
        simp only [Act.put, List.setIfInBounds_toArray, List.set_cons_zero, List.set_cons_succ]
        refine wpAnyH_take (i := 14) (v := ?_) rfl (by kernel_rfl) (by kernel_rfl) (by kernel_rfl) (fun _ _ _ h => h) (Or.inl ⟨by rfl, ?_⟩) hHeld ?_
        rotate_left
        · intro w hSw
          try dsimp only at hSw
          go_simp
          try with_reducible rfl
        change wpAnyH _ _ _ _ _ _ _ (Act.put _ (some 50) _) _
        simp only [Act.put, List.setIfInBounds_toArray, List.set_cons_zero, List.set_cons_succ]
        refine wpAnyH_take (i := 15) (v := ?_) rfl (by kernel_rfl) (by kernel_rfl) (by kernel_rfl) (fun _ _ _ h => h) (Or.inl ⟨by rfl, ?_⟩) hHeld ?_
        rotate_left
        · intro w hSw
          try dsimp only at hSw
          go_simp
          try with_reducible rfl
        change wpAnyH _ _ _ _ _ _ _ (Act.put _ (some 51) _) _
        simp only [Act.put, List.setIfInBounds_toArray, List.set_cons_zero, List.set_cons_succ]
        refine wpAnyH_take (i := 16) (v := ?_) rfl (by kernel_rfl) (by kernel_rfl) (by kernel_rfl) (fun _ _ _ h => h) (Or.inl ⟨by rfl, ?_⟩) hHeld ?_
        rotate_left
        · intro w hSw
          try dsimp only at hSw
          go_simp
          try with_reducible rfl
        change wpAnyH _ _ _ _ _ _ _ (Act.put _ (some 52) _) _
        simp only [Act.put, List.setIfInBounds_toArray, List.set_cons_zero, List.set_cons_succ]
        refine wpAnyH_take (i := 17) (v := ?_) rfl (by kernel_rfl) (by kernel_rfl) (by kernel_rfl) (fun _ _ _ h => h) (Or.inl ⟨by rfl, ?_⟩) hHeld ?_
        rotate_left
        · intro w hSw
          try dsimp only at hSw
          go_simp
          try with_reducible rfl
        change wpAnyH _ _ _ _ _ _ _ (Act.put _ (some 53) _) _
        simp only [Act.put, List.setIfInBounds_toArray, List.set_cons_zero, List.set_cons_succ]
        refine wpAnyH_ready (rs := [18]) (by kernel_rfl) (by simp) ?_
        refine AllReadyH.cons rfl (fun K hK => ?_) AllReadyH.nil
        go_simp
        with_reducible refine (HS4.out _ hd).mono ?_
        rintro e w6 ⟨rfl, hb6'⟩
        have hb6 := hd.trans (hb6'.mono hd.size)
        refine hK.out _ _ (pair8 (HX4.out _ hb6) (HY4.out _ hb6)) (fun hHeld => ?_)
        clear hK K
        refine wpAnyH_take (i := 19) (v := ?_) rfl (by kernel_rfl) (by kernel_rfl) (by kernel_rfl) (fun _ _ _ h => h) (Or.inl ⟨by rfl, ?_⟩) hHeld ?_
        rotate_left
        · intro w hSw
          try dsimp only at hSw
          go_simp
          try with_reducible rfl
        change wpAnyH _ _ _ _ _ _ _ (Act.put _ (some 55) _) _
        simp only [Act.put, List.setIfInBounds_toArray, List.set_cons_zero, List.set_cons_succ]
        refine wpAnyH_take (i := 20) (v := ?_) rfl (by kernel_rfl) (by kernel_rfl) (by kernel_rfl) (fun _ _ _ h => h) (Or.inl ⟨by rfl, ?_⟩) hHeld ?_
        rotate_left
        · intro w hSw
          try dsimp only at hSw
          go_simp
          try with_reducible rfl
        change wpAnyH _ _ _ _ _ _ _ (Act.put _ (some 56) _) _
        simp only [Act.put, List.setIfInBounds_toArray, List.set_cons_zero, List.set_cons_succ]
        refine wpAnyH_take (i := 21) (v := ?_) rfl (by kernel_rfl) (by kernel_rfl) (by kernel_rfl) (fun _ _ _ h => h) (Or.inl ⟨by rfl, ?_⟩) hHeld ?_
        rotate_left
        · intro w hSw
          try dsimp only at hSw
          go_simp
          try with_reducible rfl
        change wpAnyH _ _ _ _ _ _ _ (Act.put _ (some 57) _) _
        simp only [Act.put, List.setIfInBounds_toArray, List.set_cons_zero, List.set_cons_succ]
        refine wpAnyH_take (i := 22) (v := ?_) rfl (by kernel_rfl) (by kernel_rfl) (by kernel_rfl) (fun _ _ _ h => h) (Or.inl ⟨by rfl, ?_⟩) hHeld ?_
        rotate_left
        · intro w hSw
          try dsimp only at hSw
          go_simp
          try with_reducible rfl
        change wpAnyH _ _ _ _ _ _ _ (Act.put _ (some 58) _) _
        simp only [Act.put, List.setIfInBounds_toArray, List.set_cons_zero, List.set_cons_succ]
        refine wpAnyH_take (i := 23) (v := .bool true) rfl (by kernel_rfl) (by kernel_rfl) (by kernel_rfl) (fun _ _ _ h => h) (Or.inl ⟨by rfl, ?_⟩) hHeld ?_
        · intro w hSw
          try dsimp only at hSw
          go_simp
          try simp
          try omega
        change wpAnyH _ _ _ _ _ _ _ (Act.put _ (some 59) _) _
        simp only [Act.put, List.setIfInBounds_toArray, List.set_cons_zero, List.set_cons_succ]
        refine wpAnyH_take (i := 24) (v := ?_) rfl (by kernel_rfl) (by kernel_rfl) (by kernel_rfl) (fun _ _ _ h => h) (Or.inl ⟨by rfl, ?_⟩) hHeld ?_
        rotate_left
        · intro w hSw
          try dsimp only at hSw
          go_simp
          try with_reducible rfl
        change wpAnyH _ _ _ _ _ _ _ (Act.put _ (some 60) _) _
        simp only [Act.put, List.setIfInBounds_toArray, List.set_cons_zero, List.set_cons_succ]
        refine wpAnyH_take (i := 25) (v := ?_) rfl (by kernel_rfl) (by kernel_rfl) (by kernel_rfl) (fun _ _ _ h => h) (Or.inl ⟨by rfl, ?_⟩) hHeld ?_
        rotate_left
        · intro w hSw
          try dsimp only at hSw
          go_simp
          try with_reducible rfl
        change wpAnyH _ _ _ _ _ _ _ (Act.put _ (some 61) _) _
        simp only [Act.put, List.setIfInBounds_toArray, List.set_cons_zero, List.set_cons_succ]
        refine wpAnyH_take (i := 26) (v := ?_) rfl (by kernel_rfl) (by kernel_rfl) (by kernel_rfl) (fun _ _ _ h => h) (Or.inl ⟨by rfl, ?_⟩) hHeld ?_
        rotate_left
        · intro w hSw
          try dsimp only at hSw
          go_simp
          try with_reducible rfl
        change wpAnyH _ _ _ _ _ _ _ (Act.put _ (some 62) _) _
        simp only [Act.put, List.setIfInBounds_toArray, List.set_cons_zero, List.set_cons_succ]
        refine wpAnyH_take (i := 27) (v := ?_) rfl (by kernel_rfl) (by kernel_rfl) (by kernel_rfl) (fun _ _ _ h => h) (Or.inl ⟨by rfl, ?_⟩) hHeld ?_
        rotate_left
        · intro w hSw
          try dsimp only at hSw
          go_simp
          try with_reducible rfl
        change wpAnyH _ _ _ _ _ _ _ (Act.put _ (some 63) _) _
        simp only [Act.put, List.setIfInBounds_toArray, List.set_cons_zero, List.set_cons_succ]
        refine wpAnyH_take (i := 28) (v := ?_) rfl (by kernel_rfl) (by kernel_rfl) (by kernel_rfl) (fun _ _ _ h => h) (Or.inl ⟨by rfl, ?_⟩) hHeld ?_
        rotate_left
        · intro w hSw
          try dsimp only at hSw
          go_simp
          try with_reducible rfl
        change wpAnyH _ _ _ _ _ _ _ (Act.put _ (some 64) _) _
        simp only [Act.put, List.setIfInBounds_toArray, List.set_cons_zero, List.set_cons_succ]
        refine wpAnyH_take (i := 29) (v := ?_) rfl (by kernel_rfl) (by kernel_rfl) (by kernel_rfl) (fun _ _ _ h => h) (Or.inl ⟨by rfl, ?_⟩) hHeld ?_
        rotate_left
        · intro w hSw
          try dsimp only at hSw
          go_simp
          try with_reducible rfl
        change wpAnyH _ _ _ _ _ _ _ (Act.put _ (some 65) _) _
        simp only [Act.put, List.setIfInBounds_toArray, List.set_cons_zero, List.set_cons_succ]
        refine wpAnyH_take (i := 30) (v := ?_) rfl (by kernel_rfl) (by kernel_rfl) (by kernel_rfl) (fun _ _ _ h => h) (Or.inl ⟨by rfl, ?_⟩) hHeld ?_
        rotate_left
        · intro w hSw
          try dsimp only at hSw
          go_simp
          try with_reducible rfl
        change wpAnyH _ _ _ _ _ _ _ (Act.put _ (some 66) _) _
        simp only [Act.put, List.setIfInBounds_toArray, List.set_cons_zero, List.set_cons_succ]
        refine wpAnyH_take (i := 31) (v := ?_) rfl (by kernel_rfl) (by kernel_rfl) (by kernel_rfl) (fun _ _ _ h => h) (Or.inl ⟨by rfl, ?_⟩) hHeld ?_
        rotate_left
        · intro w hSw
          try dsimp only at hSw
          go_simp
          try with_reducible rfl
        change wpAnyH _ _ _ _ _ _ _ (Act.put _ (some 67) _) _
        simp only [Act.put, List.setIfInBounds_toArray, List.set_cons_zero, List.set_cons_succ]
        refine wpAnyH_take (i := 32) (v := ?_) rfl (by kernel_rfl) (by kernel_rfl) (by kernel_rfl) (fun _ _ _ h => h) (Or.inl ⟨by rfl, ?_⟩) hHeld ?_
        rotate_left
        · intro w hSw
          try dsimp only at hSw
          go_simp
          try with_reducible rfl
        change wpAnyH _ _ _ _ _ _ _ (Act.put _ (some 68) _) _
        simp only [Act.put, List.setIfInBounds_toArray, List.set_cons_zero, List.set_cons_succ]
        refine wpAnyH_take (i := 33) (v := ?_) rfl (by kernel_rfl) (by kernel_rfl) (by kernel_rfl) (fun _ _ _ h => h) (Or.inl ⟨by rfl, ?_⟩) hHeld ?_
        rotate_left
        · intro w hSw
          try dsimp only at hSw
          go_simp
          try with_reducible rfl
        change wpAnyH _ _ _ _ _ _ _ (Act.put _ (some 69) _) _
        simp only [Act.put, List.setIfInBounds_toArray, List.set_cons_zero, List.set_cons_succ]
        refine wpAnyH_take (i := 35) (v := ?_) rfl (by kernel_rfl) (by kernel_rfl) (by kernel_rfl) (fun _ _ _ h => h) (Or.inl ⟨by rfl, ?_⟩) hHeld ?_
        rotate_left
        · intro w hSw
          try dsimp only at hSw
          go_simp
          try with_reducible rfl
        change wpAnyH _ _ _ _ _ _ _ (Act.put _ (some 71) _) _
        simp only [Act.put, List.setIfInBounds_toArray, List.set_cons_zero, List.set_cons_succ]
        refine wpAnyH_take (i := 36) (v := ?_) rfl (by kernel_rfl) (by kernel_rfl) (by kernel_rfl) (fun _ _ _ h => h) (Or.inl ⟨by rfl, ?_⟩) hHeld ?_
        rotate_left
        · intro w hSw
          try dsimp only at hSw
          go_simp
          try with_reducible rfl
        change wpAnyH _ _ _ _ _ _ _ (Act.put _ (some 72) _) _
        simp only [Act.put, List.setIfInBounds_toArray, List.set_cons_zero, List.set_cons_succ]
        refine wpAnyH_take (i := 37) (v := ?_) rfl (by kernel_rfl) (by kernel_rfl) (by kernel_rfl) (fun _ _ _ h => h) (Or.inl ⟨by rfl, ?_⟩) hHeld ?_
        rotate_left
        · intro w hSw
          try dsimp only at hSw
          go_simp
          try with_reducible rfl
        change wpAnyH _ _ _ _ _ _ _ (Act.put _ (some 73) _) _
        simp only [Act.put, List.setIfInBounds_toArray, List.set_cons_zero, List.set_cons_succ]
        refine wpAnyH_take (i := 38) (v := ?_) rfl (by kernel_rfl) (by kernel_rfl) (by kernel_rfl) (fun _ _ _ h => h) (Or.inl ⟨by rfl, ?_⟩) hHeld ?_
        rotate_left
        · intro w hSw
          try dsimp only at hSw
          go_simp
          try with_reducible rfl
        change wpAnyH _ _ _ _ _ _ _ (Act.put _ (some 74) _) _
        simp only [Act.put, List.setIfInBounds_toArray, List.set_cons_zero, List.set_cons_succ]
        refine wpAnyH_take (i := 39) (v := ?_) rfl (by kernel_rfl) (by kernel_rfl) (by kernel_rfl) (fun _ _ _ h => h) (Or.inl ⟨by rfl, ?_⟩) hHeld ?_
        rotate_left
        · intro w hSw
          try dsimp only at hSw
          go_simp
          try with_reducible rfl
        change wpAnyH _ _ _ _ _ _ _ (Act.put _ (some 75) _) _
        simp only [Act.put, List.setIfInBounds_toArray, List.set_cons_zero, List.set_cons_succ]
        refine wpAnyH_take (i := 40) (v := ?_) rfl (by kernel_rfl) (by kernel_rfl) (by kernel_rfl) (fun _ _ _ h => h) (Or.inl ⟨by rfl, ?_⟩) hHeld ?_
        rotate_left
        · intro w hSw
          try dsimp only at hSw
          go_simp
          try with_reducible rfl
        change wpAnyH _ _ _ _ _ _ _ (Act.put _ (some 76) _) _
        simp only [Act.put, List.setIfInBounds_toArray, List.set_cons_zero, List.set_cons_succ]
        refine wpAnyH_take (i := 41) (v := ?_) rfl (by kernel_rfl) (by kernel_rfl) (by kernel_rfl) (fun _ _ _ h => h) (Or.inl ⟨by rfl, ?_⟩) hHeld ?_
        rotate_left
        · intro w hSw
          try dsimp only at hSw
          go_simp
          try with_reducible rfl
        change wpAnyH _ _ _ _ _ _ _ (Act.put _ (some 77) _) _
        simp only [Act.put, List.setIfInBounds_toArray, List.set_cons_zero, List.set_cons_succ]
        refine wpAnyH_take (i := 42) (v := ?_) rfl (by kernel_rfl) (by kernel_rfl) (by kernel_rfl) (fun _ _ _ h => h) (Or.inl ⟨by rfl, ?_⟩) hHeld ?_
        rotate_left
        · intro w hSw
          try dsimp only at hSw
          go_simp
          try with_reducible rfl
        change wpAnyH _ _ _ _ _ _ _ (Act.put _ (some 78) _) _
        simp only [Act.put, List.setIfInBounds_toArray, List.set_cons_zero, List.set_cons_succ]
        refine wpAnyH_take (i := 43) (v := ?_) rfl (by kernel_rfl) (by kernel_rfl) (by kernel_rfl) (fun _ _ _ h => h) (Or.inl ⟨by rfl, ?_⟩) hHeld ?_
        rotate_left
        · intro w hSw
          try dsimp only at hSw
          go_simp
          try with_reducible rfl
        change wpAnyH _ _ _ _ _ _ _ (Act.put _ (some 79) _) _
        simp only [Act.put, List.setIfInBounds_toArray, List.set_cons_zero, List.set_cons_succ]
        refine wpAnyH_ready (rs := [34]) (by kernel_rfl) (by simp) ?_
        refine AllReadyH.cons rfl (fun K hK => ?_) AllReadyH.nil
        go_simp
        with_reducible refine (HS5.out _ hb6).mono ?_
        rintro e w7 ⟨rfl, hb7'⟩
        have hb7 := hb6.trans (hb7'.mono hb6.size)
        refine hK.out _ _ (pair8 (HX4.out _ hb7) (HY4.out _ hb7)) (fun hHeld => ?_)
        clear hK K
        refine wpAnyH_ready (rs := [44]) (by kernel_rfl) (by simp) ?_
        refine AllReadyH.cons rfl (fun K hK => ?_) AllReadyH.nil
        go_simp
        with_reducible refine (HS6.out _ hb7).mono ?_
        rintro e w8 ⟨rfl, hb8'⟩
        have hb8 := hb7.trans (hb8'.mono hb7.size)
        refine hK.out _ _ (pair8 (HX4.out _ hb8) (HY4.out _ hb8)) (fun hHeld => ?_)
        clear hK K
        refine wpAnyH_take (i := 45) (v := ?_) rfl (by kernel_rfl) (by kernel_rfl) (by kernel_rfl) (fun _ _ _ h => h) (Or.inl ⟨by rfl, ?_⟩) hHeld ?_
        rotate_left
        · intro w hSw
          try dsimp only at hSw
          go_simp
          try with_reducible rfl
        change wpAnyH _ _ _ _ _ _ _ (Act.put _ (some 81) _) _
        simp only [Act.put, List.setIfInBounds_toArray, List.set_cons_zero, List.set_cons_succ]
        refine wpAnyH_take (i := 46) (v := ?_) rfl (by kernel_rfl) (by kernel_rfl) (by kernel_rfl) (fun _ _ _ h => h) (Or.inl ⟨by rfl, ?_⟩) hHeld ?_
        rotate_left
        · intro w hSw
          try dsimp only at hSw
          go_simp
          try with_reducible rfl
        change wpAnyH _ _ _ _ _ _ _ (Act.put _ (some 82) _) _
        simp only [Act.put, List.setIfInBounds_toArray, List.set_cons_zero, List.set_cons_succ]
        refine wpAnyH_take (i := 47) (v := ?_) rfl (by kernel_rfl) (by kernel_rfl) (by kernel_rfl) (fun _ _ _ h => h) (Or.inl ⟨by rfl, ?_⟩) hHeld ?_
        rotate_left
        · intro w hSw
          try dsimp only at hSw
          go_simp
          try with_reducible rfl
        change wpAnyH _ _ _ _ _ _ _ (Act.put _ (some 83) _) _
        simp only [Act.put, List.setIfInBounds_toArray, List.set_cons_zero, List.set_cons_succ]
        refine wpAnyH_done (by kernel_rfl) ?_ _
        have HZ := Lib.hid (HB4.out.trans (hb8.mono HB4.out.size))
        clear hb8 hb8' hb7 hb7' hb6 hb6' q0 q1 q2 q3 y0 y1 y2 y3 hd
        go_wp2
        go_roundw
        case rel => exact ⟨K + 1, by omega, by go_num, HZ.out⟩
        case measure => simp [intOf]; omega
    · obtain rfl : k = n := by omega
      have ki : ¬ (k : Int) < (k : Int) := by omega
      have HF5 := Lib.hid (HFST.out wr)
      have HBW := Lib.hid hbw
      clear hbw
      go_wp2_with fail
      with_reducible refine (HF5.out).mono ?_
      rintro e w5 ⟨rfl, hb5⟩
      have HZ := Lib.hid (HBW.out.trans (hb5.mono HBW.out.size))
      clear hb5 HF5
      go_wp2
      go_ret
      exact ⟨rfl, HZ.out⟩
theorem walk_any (A : Option Addr) (l : List FrA) (n c : Nat) (w : World) (hA : AtR w w.heap.size A l) (hl : l.length = n) : Calls Try.prog 3 #[.slice A n c] w (YesF w) := by
  cases hf : few10 l with
  | true => exact walk_in A l n c w hA hl hf
  | false =>
    have HFST := Lib.hid fun (W : World) => first10_any W
    have HFEW : Hid (∀ W, Below w.heap.size w W → Calls Try.prog 9 #[.slice A n c] W fun e w' => e = .returned (.bool false) ∧ w' = W) := Lib.hid (fun W hb => by rw [← hf]; exact few10_any A l n c W (hA.up hb) hl)
    clear hA hl hf
    go_enter Try.func3, Try.ntmps3
    go_wp2_with fail
    with_reducible refine (HFST.out w).mono ?_
    rintro e w1 ⟨rfl, hb1⟩
    have HB1 := Lib.hid hb1
    have HFW := Lib.hid (HFEW.out w1 hb1)
    clear hb1 HFEW
    go_wp2_with fail
    with_reducible refine (HFW.out).mono ?_
    rintro e w2 ⟨rfl, rfl⟩
    have HF2 := Lib.hid (HFST.out w2)
    clear HFW
    go_wp2_with fail
    with_reducible refine (HF2.out).mono ?_
    rintro e w3 ⟨rfl, hb3⟩
    have HZ := Lib.hid (HB1.out.trans (hb3.mono HB1.out.size))
    clear hb3 HF2
    go_wp2
    go_ret
    exact ⟨rfl, HZ.out⟩
end framePuts
end Go.Proofs.Ytegcloapadippaa
