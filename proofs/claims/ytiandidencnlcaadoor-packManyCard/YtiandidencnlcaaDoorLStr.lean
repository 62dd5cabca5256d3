/- A scope with many labels (goto): what holds at each label, and a measure. -/
import Derived.Test.YtiandidencnlcaaDoorLMem
import Derived.ScopeJumps
import Derived.Lib.Hide
import Derived.Test.YtiandidencnlcaaDoorPGetD
import Derived.Laws.Bits128
import Derived.Lib.AppendStr
import Derived.Lib.SlBytesConst
namespace Go.Proofs.YtiandidencnlcaaDoor
open Go.RowKit

/-- As Q; by a jump to label l: J l. -/
def jumpsTo (J : Nat → Act → World → Prop) (Q : Exit → Act → World → Prop) : Exit → Act → World → Prop
  | .goto l, a, w => J l a w
  | e, a, w => Q e a w
/-- A scope with many labels: J l holds at every jump to l; every pass from a label lowers the measure. -/
theorem wp_scope_many {P : Program} {a : Act} {w : World} {Q : Exit → Act → World → Prop} {c : Code} (J : Nat → Act → World → Prop) (μ : Nat → Act → World → Nat)
    (first : c.wp P (jumpsTo J Q) a w)
    (pass : ∀ l a w, J l a w → ∃ rest, findLabel c l = some rest ∧ rest.wp P (jumpsTo (fun l' a' w' => J l' a' w' ∧ μ l' a' w' < μ l a w) Q) a w) : (Code.scope c).wp P Q a w := by
  intro b k cs
  have key : ∀ n l a w, μ l a w = n → J l a w → ∃ rest, findLabel c l = some rest ∧ ∃ e a' w', Q e a' w' ∧ Arrives P (lone (b.at a (.code rest :: .inScope c :: k)) cs w) b k cs e a' w' := by
    intro n
    induction n using Nat.strongRecOn with
    | _ n ih =>
      intro l a w hn hJ
      obtain ⟨rest, hf, hp⟩ := pass l a w hJ
      refine ⟨rest, hf, ?_⟩
      obtain ⟨e, a₁, w₁, hq, harr⟩ := hp b (.inScope c :: k) cs
      cases e with
      | normal => exact ⟨.normal, a₁, w₁, hq, Steps.trans harr (.one step_inScope)⟩
      | exit id => exact ⟨.exit id, a₁, w₁, hq, fun k' hk => harr k' (by simp [exitTo, hk])⟩
      | goto l' =>
        obtain ⟨hJ', hlt⟩ := hq
        obtain ⟨rest', hf', e₂, a₂, w₂, hq₂, harr₂⟩ := ih _ (by omega) l' a₁ w₁ rfl hJ'
        have hg : gotoIn l' (.inScope c :: k) = some (.code rest' :: .inScope c :: k) := by simp [gotoIn, hf']
        exact ⟨e₂, a₂, w₂, hq₂, .of_steps (harr _ hg) harr₂⟩
      | ret => exact ⟨_, a₁, w₁, hq, harr⟩
      | panic ch => exact ⟨_, a₁, w₁, hq, harr⟩
      | outgrown => exact ⟨_, a₁, w₁, hq, harr⟩
  obtain ⟨e, a₁, w₁, hq, harr⟩ := first b (.inScope c :: k) cs
  cases e with
  | normal => exact ⟨.normal, a₁, w₁, hq, .head step_scope (Steps.trans harr (.one step_inScope))⟩
  | exit id => exact ⟨.exit id, a₁, w₁, hq, fun k' hk => .head step_scope (harr k' (by simp [exitTo, hk]))⟩
  | goto l' =>
    obtain ⟨rest', hf', e₂, a₂, w₂, hq₂, harr₂⟩ := key _ l' a₁ w₁ rfl hq
    have hg : gotoIn l' (.inScope c :: k) = some (.code rest' :: .inScope c :: k) := by simp [gotoIn, hf']
    exact ⟨e₂, a₂, w₂, hq₂, .of_steps (.head step_scope (harr _ hg)) harr₂⟩
  | ret => exact ⟨_, a₁, w₁, hq, .of_steps (.one step_scope) harr⟩
  | panic ch => exact ⟨_, a₁, w₁, hq, .of_steps (.one step_scope) harr⟩
  | outgrown => exact ⟨_, a₁, w₁, hq, .of_steps (.one step_scope) harr⟩
/-- A scope with one label to which the run falls and jumps: what holds at the label, and a measure. -/
theorem wp_scope_one {P : Program} {a : Act} {w : World} {Q : Exit → Act → World → Prop} {c rest : Code} (l : Nat) (J : Act → World → Prop) (μ : Act → World → Nat) (hf : findLabel c l = some (Code.skip.seq rest))
    (pass : ∀ a w, J a w → rest.wp P (Exit.jump l (fun a' w' => J a' w' ∧ μ a' w' < μ a w) Q) a w)
    (first : Hid (∀ a w, J a w → rest.wp P (Exit.jump l J Q) a w) → c.wp P (Exit.jump l J Q) a w) : (Code.scope c).wp P Q a w :=
  wp_scope_jumps l J μ hf (first (Lib.hid fun a w h => Code.wp_mono (fun e a' w' hq => by
    cases e <;> first | exact hq | exact ⟨hq.1, hq.2.1⟩) (pass a w h))) (fun a w h => wp_seq (wp_skip (pass a w h)))
end Go.Proofs.YtiandidencnlcaaDoor
/- Contracts of the landed code's small functions: inByte, allOnes. -/
namespace Go.Proofs.YtiandidencnlcaaDoor
open Go.RowKit Pn

theorem inByte_any (b : Int) (w : World) : Calls Tryd.prog 76 #[.int .i64 b] w fun e w' => e = .returned (.bool (decide (1 ≤ b ∧ b ≤ 8))) ∧ w = w' := by
  by_cases h1 : 1 ≤ b
  · by_cases h2 : b ≤ 8
    · have d1 : decide ((1 : Int) ≤ b) = true := decide_eq_true h1
      have d2 : decide (b ≤ 8) = true := decide_eq_true h2
      go_enter Tryd.func76, Tryd.ntmps76
      go_wp2
      go_ret
      try rw [decide_eq_true (by omega)]
      exact ⟨rfl, rfl⟩
    · have d1 : decide ((1 : Int) ≤ b) = true := decide_eq_true h1
      have d2 : decide (b ≤ 8) = false := decide_eq_false h2
      go_enter Tryd.func76, Tryd.ntmps76
      go_wp2
      go_ret
      try rw [decide_eq_false (by omega)]
      exact ⟨rfl, rfl⟩
  · have d1 : decide ((1 : Int) ≤ b) = false := decide_eq_false h1
    go_enter Tryd.func76, Tryd.ntmps76
    go_wp2
    go_ret
    try rw [decide_eq_false (by omega)]
    exact ⟨rfl, rfl⟩
theorem ones_any (B : Nat) (w : World) (hB1 : 1 ≤ B) (hB8 : B ≤ 8) : Calls Tryd.prog 77 #[.int .i64 (B : Int)] w fun e w' => e = .returned (.int .i64 ((full B : Nat) : Int)) ∧ w = w' := by
  obtain ⟨p, hp⟩ : ∃ p, p = 2 ^ B := ⟨_, rfl⟩
  have hp1 : 2 ≤ p := by rw [hp]; exact Nat.pow_le_pow_right (n := 2) (by decide) hB1
  have hp2 : p ≤ 256 := by rw [hp]; exact full_bound hB8
  have ep : ((2 : Int) ^ B) = (p : Int) := by rw [hp]; simp
  obtain ⟨F, hF⟩ : ∃ F, F = full B := ⟨_, rfl⟩
  rw [← hF]
  have HF2 : Hid (F = p - 1) := Lib.hid (by rw [hF, hp, full])
  have eF : (p : Int) - 1 = (F : Int) := by have := HF2.out; omega
  have su := u64_small B (by omega)
  clear hp hF
  go_enter Tryd.func77, Tryd.ntmps77
  go_wp2
  go_ret
  exact ⟨rfl, rfl⟩
end Go.Proofs.YtiandidencnlcaaDoor
/- Contract of the reference's Put. -/
namespace Go.Proofs.YtiandidencnlcaaDoor
open Go.RowKit Pn

theorem own_one (w : World) (B x : Nat) (hB : B ≤ w.heap.size) : (w.alloc (.cells #[.int .u8 (x : Int)] 5)).ownsRow B 5 1 (.slice (some ⟨w.heap.size, 0, none⟩) 1 1) 1 (cn .u8 [x]) :=
  ⟨rfl, .inr ⟨w.heap.size, 1, #[.int .u8 (x : Int)], rfl, hB, heap_alloc_new w _, Nat.le_refl _, (by unfold maxLen; omega), rfl, rfl⟩⟩
/-- What Put hands back: bytes in new memory, and what went wrong. -/
def PutPost (w : World) (s : List Nat × Nat) (e : Ending) (w' : World) : Prop := ∃ A c, e = .returned (.tuple #[.slice A s.1.length c, .int .i64 ((s.2 : Nat) : Int)]) ∧ At .u8 w' w'.heap.size A s.1 ∧ (A = none → c = 0) ∧ s.1.length ≤ c ∧ Below w.heap.size w w'
/-- What a Put that answers OK hands back: a row of its own. -/
def PutRow (w : World) (s : List Nat) (e : Ending) (w' : World) : Prop := ∃ v, e = .returned (.tuple #[v, .int .i64 0]) ∧ Row w.heap.size w s v w'
theorem PutRow.post {w : World} {s : List Nat} {e : Ending} {w' : World} (h : PutRow w s e w') : PutPost w (s, 0) e w' := by
  obtain ⟨v, rfl, hr⟩ := h
  obtain ⟨A, c, rfl, h1, h2, h3⟩ := hr.at
  exact ⟨A, c, rfl, h1, h2, h3, hr.2⟩
def PtR (w : World) (l : List Nat) (n v : Value) (wr : World) : Prop := ∃ (m : Nat) (o : List Nat), m ≤ 2147483647 ∧ o.length ≤ 6 ∧ n = .int .i64 (m : Int) ∧ o ++ grp m = l ∧ Row w.heap.size w o v wr
set_option maxRecDepth 100000 in
set_option maxHeartbeats 4000000 in
theorem rput_out (h : Nat) (b n : Int) (w : World) (hout : ¬ (1 ≤ b ∧ b ≤ 8 ∧ 0 ≤ n ∧ n ≤ 2147483647)) : Calls Tryd.prog 37 #[.int .u8 h, .int .i64 b, .int .i64 n] w (PutPost w (putI h b n)) := by
  have HP : Hid (putI h b n = ([], 1)) := Lib.hid (putI_out hout)
  by_cases h1 : b < 1
  · clear hout
    go_enter Tryd.func37, Tryd.ntmps37
    go_wp2
    go_ret2
    rw [HP.out]
    exact ⟨none, 0, rfl, at_nil _ _ _ _, fun _ => rfl, by simp, Below.refl _ _⟩
  by_cases h2 : 8 < b
  · clear hout
    go_enter Tryd.func37, Tryd.ntmps37
    go_wp2
    go_ret2
    rw [HP.out]
    exact ⟨none, 0, rfl, at_nil _ _ _ _, fun _ => rfl, by simp, Below.refl _ _⟩
  by_cases h3 : n < 0
  · clear hout
    go_enter Tryd.func37, Tryd.ntmps37
    go_wp2
    go_ret2
    rw [HP.out]
    exact ⟨none, 0, rfl, at_nil _ _ _ _, fun _ => rfl, by simp, Below.refl _ _⟩
  have h4 : 2147483647 < n := by omega
  clear hout
  go_enter Tryd.func37, Tryd.ntmps37
  go_wp2
  go_ret2
  rw [HP.out]
  exact ⟨none, 0, rfl, at_nil _ _ _ _, fun _ => rfl, by simp, Below.refl _ _⟩
set_option maxRecDepth 100000 in
set_option maxHeartbeats 4000000 in
theorem rput_row (h B m : Nat) (w : World) (hh : h < 256) (hB1 : 1 ≤ B) (hB8 : B ≤ 8) (hm : m ≤ 2147483647) : Calls Tryd.prog 37 #[.int .u8 h, .int .i64 (B : Int), .int .i64 (m : Int)] w (PutRow w (put h B m)) := by
  obtain ⟨p, hp⟩ : ∃ p, p = 2 ^ B := ⟨_, rfl⟩
  have hp1 : 2 ≤ p := by rw [hp]; exact Nat.pow_le_pow_right (n := 2) (by decide) hB1
  have hp2 : p ≤ 256 := by rw [hp]; exact full_bound hB8
  have ep : ((2 : Int) ^ B) = (p : Int) := by rw [hp]; simp
  obtain ⟨F, hF⟩ : ∃ F, F = full B := ⟨_, rfl⟩
  have HF2 : Hid (F = p - 1) := Lib.hid (by rw [hF, hp, full])
  have eF : (p : Int) - 1 = (F : Int) := by have := HF2.out; omega
  have hFp : F < p := by omega
  have su := u64_small B (by omega)
  obtain ⟨D, hD⟩ : ∃ D, D = hd h B := ⟨_, rfl⟩
  have hDl : D + F < 256 := by rw [hD, hF]; exact hd_byte h B _ hh hB8 (full_lt B)
  have eD : bits BinOp.andNot IntKind.u8 (h : Int) (F : Int) = (D : Int) := by
    rw [u8_andNot_nat h F hh (by omega), hF, hD, full, hd]
    exact congrArg _ (clear_low ⟨B, by omega⟩ ⟨h, hh⟩)
  have HDM : Hid (∀ r, r < p → bits BinOp.or IntKind.u8 (D : Int) (r : Int) = ((D + r : Nat) : Int)) := Lib.hid (fun r hr => by
    rw [u8_or_nat D r (by omega) (by omega), nat_join B D r (by rw [hD, hd, Nat.mul_mod_left]) (by omega)])
  have HPUT : Hid (put h B m = if m < F then [D + m] else (D + F) :: grp (m - F)) := Lib.hid (by rw [hF, hD]; rfl)
  have fw : IntKind.u8.wrap (F : Int) = (F : Int) := by rw [IntKind.wrap_u8']; omega
  clear hp hF hD
  by_cases hlt : m < F
  · have mw : IntKind.u8.wrap (m : Int) = (m : Int) := by rw [IntKind.wrap_u8']; omega
    have eo := HDM.out m (by omega)
    go_enter Tryd.func37, Tryd.ntmps37
    go_wp2
    go_ret2
    rw [HPUT.out, if_pos hlt]
    exact ⟨_, rfl, own_one w w.heap.size (D + m) (Nat.le_refl _), (Below.refl _ _).alloc (Nat.le_refl _) _⟩
  · have eo := HDM.out F (by omega)
    obtain ⟨M, hM⟩ : ∃ M, M = m - F := ⟨_, rfl⟩
    have eM : (m : Int) - (F : Int) = (M : Int) := by omega
    have HM := Lib.hid hM
    have hM2 : M ≤ 2147483647 := by omega
    clear hM
    go_enter Tryd.func37, Tryd.ntmps37
    go_wp2
    go_loopw [2, 10] (fun n v wr => PtR w ((D + F) :: grp M) n v wr) (fun n _ _ => (intOf n).toNat)
    case atStart => exact ⟨M, [D + F], by omega, by simp, rfl, rfl, own_one w w.heap.size (D + F) (Nat.le_refl _), (Below.refl _ _).alloc (Nat.le_refl _) _⟩
    case round =>
      obtain ⟨t, o, ht, ho, rfl, hog, hrow⟩ := hrel
      have hol : o.length + nd t + 1 ≤ 6 := by
        have := congrArg List.length hog
        rw [List.length_append, List.length_cons, grp_len, grp_len] at this
        have := grp_nd (m := M) (by omega)
        omega
      have HOG := Lib.hid hog
      clear hog
      by_cases h128 : t < 128
      · have tw : IntKind.u8.wrap (t : Int) = (t : Int) := by rw [IntKind.wrap_u8']; omega
        have d128 : decide ((128 : Int) ≤ (t : Int)) = false := decide_eq_false (by omega)
        obtain ⟨K, hK⟩ : ∃ K, (o ++ [t]).length = K := ⟨_, rfl⟩
        have HK := Lib.hid hK
        clear hK
        go_wp2_with (at_builtin; refine wpList_append_at rfl (.tmp 60) (.tmp 63) rfl w.heap.size _ o rfl (hrow.1.alloc _) (some ⟨wr.heap.size, 0, none⟩) [t] _ 1 rfl rfl (fun h => by cases h) _ (At.new wr [t] 5 (0, 0)) ?_ ?_ ?_; (rotate_right; intro v9 w9 hown9 hg9; rw [HK.out] at hown9; obtain ⟨A9, c9, rfl⟩ := own_shape hown9))
        · have hb9 := (hrow.2.alloc hrow.2.size _).grown hg9 (by have := hrow.2.size; simp; omega) (own_block hrow.1)
          clear hg9 hrow
          go_wp2
          go_ret2
          have e : put h B m = o ++ [t] := by rw [HPUT.out, if_neg hlt, ← HM.out, ← HOG.out, grp_low h128]
          rw [e]
          exact ⟨_, rfl, by rw [HK.out]; exact hown9, hb9⟩
        all_goals first | (simp; omega) | (have := hrow.2.size; simp; omega) | simp
      · obtain ⟨r, hr⟩ : ∃ r, r = t % 128 := ⟨_, rfl⟩
        obtain ⟨q, hq⟩ : ∃ q, q = t / 128 := ⟨_, rfl⟩
        obtain ⟨r2, hr2⟩ : ∃ r2, r2 = r + 128 := ⟨_, rfl⟩
        have er : bits BinOp.and IntKind.i64 (t : Int) 127 = (r : Int) := by rw [i64_and127]; omega
        have er2 : bits BinOp.or IntKind.i64 (r : Int) 128 = (r2 : Int) := by
          have := i64_or_nat r 128 (by omega) (by omega)
          rw [Nat.or_comm, nat_join 7 128 r (by omega) (by omega)] at this
          rw [hr2, Nat.add_comm]
          exact this
        have rw2 : IntKind.u8.wrap (r2 : Int) = (r2 : Int) := by rw [IntKind.wrap_u8']; omega
        have eq : (t : Int) / 128 = (q : Int) := by omega
        have d128 : decide ((128 : Int) ≤ (t : Int)) = true := decide_eq_true (by omega)
        have HQ : Hid (o ++ [r2] ++ grp q = (D + F) :: grp M) := Lib.hid (by rw [← HOG.out, grp_high h128, List.append_assoc, List.singleton_append, hr2, hr, hq])
        have hqt : q < t ∧ q ≤ 2147483647 := by omega
        have ho5 : o.length ≤ 5 := by omega
        clear hr hq hr2
        go_wp2_with (at_builtin; refine wpList_append_at rfl (.tmp 51) (.tmp 56) rfl w.heap.size _ o rfl (hrow.1.alloc _) (some ⟨wr.heap.size, 0, none⟩) [r2] _ 1 rfl rfl (fun h => by cases h) _ (At.new wr [r2] 5 (0, 0)) ?_ ?_ ?_; (rotate_right; intro v9 w9 hown9 hg9))
        · have hb9 := (hrow.2.alloc hrow.2.size _).grown hg9 (by have := hrow.2.size; simp; omega) (own_block hrow.1)
          clear hg9 hrow
          go_wp2
          go_roundw
          case rel => exact ⟨q, o ++ [r2], hqt.2, by simp; omega, by go_num, HQ.out, hown9, hb9⟩
          case measure => simp [intOf]; omega
        all_goals first | (simp; omega) | (have := hrow.2.size; simp; omega) | simp
theorem rput_in (h B m : Nat) (w : World) (hh : h < 256) (hB1 : 1 ≤ B) (hB8 : B ≤ 8) (hm : m ≤ 2147483647) : Calls Tryd.prog 37 #[.int .u8 h, .int .i64 (B : Int), .int .i64 (m : Int)] w (PutPost w (put h B m, 0)) :=
  (rput_row h B m w hh hB1 hB8 hm).mono fun _ _ h => h.post
/-- The reference's Put, at all arguments. -/
theorem rput_any (h : Nat) (b n : Int) (w : World) (hh : h < 256) : Calls Tryd.prog 37 #[.int .u8 h, .int .i64 b, .int .i64 n] w (PutPost w (putI h b n)) := by
  by_cases hin : 1 ≤ b ∧ b ≤ 8 ∧ 0 ≤ n ∧ n ≤ 2147483647
  · obtain ⟨B, rfl⟩ : ∃ v : Nat, b = (v : Int) := ⟨b.toNat, by omega⟩
    obtain ⟨m, rfl⟩ : ∃ v : Nat, n = (v : Int) := ⟨n.toNat, by omega⟩
    rw [putI_in (by omega) (by omega)]
    exact rput_in h B m w hh (by omega) (by omega) (by omega)
  · exact rput_out h b n w hin
end Go.Proofs.YtiandidencnlcaaDoor
/- Bytes as a string. -/
namespace Go.Proofs.YtiandidencnlcaaDoor
open Go.RowKit

def str (l : List Nat) : ByteArray := ⟨(l.map fun x => UInt8.ofNat x).toArray⟩
theorem str_list (l : List Nat) : (str l).toList = l.map fun x => UInt8.ofNat x := by rw [str, ByteArray.toList_mk]
theorem map_inj : ∀ (l l' : List Nat), (∀ x ∈ l, x < 256) → (∀ x ∈ l', x < 256) → (l.map fun x => UInt8.ofNat x) = (l'.map fun x => UInt8.ofNat x) → l = l'
  | [], [], _, _, _ => rfl
  | [], _ :: _, _, _, h => by simp at h
  | _ :: _, [], _, _, h => by simp at h
  | a :: r, b :: r', ha, hb, h => by
    simp only [List.map_cons, List.cons.injEq] at h
    have e1 := congrArg UInt8.toNat h.1
    have a1 := ha a (by simp)
    have b1 := hb b (by simp)
    simp only [UInt8.toNat_ofNat'] at e1
    rw [show a = b by omega, map_inj r r' (fun x hx => ha x (by simp [hx])) (fun x hx => hb x (by simp [hx])) h.2]
theorem str_eq (l l' : List Nat) (h : ∀ x ∈ l, x < 256) (h' : ∀ x ∈ l', x < 256) : ((str l).toList == (str l').toList) = decide (l = l') := by
  rw [str_list, str_list, Bool.eq_iff_iff]
  simp only [beq_iff_eq, decide_eq_true_eq]
  exact ⟨map_inj l l' h h', fun e => by rw [e]⟩
/-- The string that a slice of bytes makes. -/
theorem run_str (w : World) (B : Nat) (A : Option Addr) (l : List Nat) (c : Nat) (h : At .u8 w B A l) : (convert 34 9 (.slice A l.length c)).run Tryd.prog w = .ok (.string (str l)) w := by
  by_cases hl : l = []
  · subst hl
    cases A with
    | none => exact run_convert_bytes_nil w 34 5 Tryd.underlying34 Tryd.underlying5 0 c 9 Tryd.underlying9
    | some a =>
      rw [run_convert_bytes_string w 34 9 5 _ _ c Tryd.underlying34 Tryd.underlying5 Tryd.underlying9]
      have := run_bytesToString (P := Tryd.prog) w a 0 c [] (by rfl)
      exact this
  · obtain ⟨b, o, rfl, hB, hc⟩ := h hl
    rw [run_convert_bytes_arg w 34 5 Tryd.underlying34 Tryd.underlying5 b o l.length c (l.map fun (x : Nat) => (x : Int)) (by simp) (fun i hi => by rw [hc i hi]; simp [List.getD, hi]) 9 Tryd.underlying9]
    simp [strOfNums, str, Function.comp_def]
end Go.Proofs.YtiandidencnlcaaDoor
