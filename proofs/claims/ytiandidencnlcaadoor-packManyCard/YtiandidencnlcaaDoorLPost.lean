/- Contract of the landed Put. -/
import Derived.Test.YtiandidencnlcaaDoorLStr
import Derived.Test.YtiandidencnlcaaDoorRows
import Derived.Deep.Strs
import Derived.Deep.Slices
import Derived.ProofKit
import Derived.OpenShut
import Derived.ShutString
import Derived.ChangeOld
import Derived.Below
import Derived.WalkKit
import Derived.WalkSpells
import Derived.IntWalk
import Derived.RegionTactic
import Derived.Deep.QuietTactic
import Derived.BigQuiet
import Derived.Lib.Hide
namespace Go.Proofs.YtiandidencnlcaaDoor
open Go.RowKit Pn

/-- What holds at Put's label: the bytes laid and those to come are l. -/
def PJ (h B F D : Nat) (w : World) (l : List Nat) (a : Act) (wr : World) : Prop :=
  ∃ (t : Nat) (v u11 u12 u13 u14 u15 u16 u17 u18 u19 u20 u21 u22 u23 u24 u25 u26 u27 u28 u29 u30 u31 u32 u33 u34 u35 u36 u37 u38 u39 u40 u41 u42 u43 u44 u45 u46 u47 u48 u49 u50 u51 u52 u53 u54 u55 u56 u57 u58 u59 : Value) (o : List Nat), a = { tmps := #[.int .u8 (h : Int), .int .i64 (B : Int), .int .i64 (t : Int), undef, undef, undef, .slice none 0 0, .int .i64 0, .int .i64 (F : Int), .int .u8 (D : Int), v, u11, u12, u13, u14, u15, u16, u17, u18, u19, u20, u21, u22, u23, u24, u25, u26, u27, u28, u29, u30, u31, u32, u33, u34, u35, u36, u37, u38, u39, u40, u41, u42, u43, u44, u45, u46, u47, u48, u49, u50, u51, u52, u53, u54, u55, u56, u57, u58, u59], defers := [] } ∧ t ≤ 2147483647 ∧ o.length ≤ 6 ∧ o ++ grp t = l ∧ Row w.heap.size w o v wr
set_option maxRecDepth 100000 in
set_option maxHeartbeats 4000000 in
theorem put_out (h : Nat) (b n : Int) (w : World) (hout : ¬ (1 ≤ b ∧ b ≤ 8 ∧ 0 ≤ n ∧ n ≤ 2147483647)) : Calls Tryd.prog 64 #[.int .u8 h, .int .i64 b, .int .i64 n] w (PutPost w (putI h b n)) := by
  have HP : Hid (putI h b n = ([], 1)) := Lib.hid (putI_out hout)
  have HIB := Lib.hid (inByte_any b w)
  by_cases hb : 1 ≤ b ∧ b ≤ 8
  · rw [decide_eq_true hb] at HIB
    by_cases h3 : n < 0
    · have d3 : decide (n < 0) = true := decide_eq_true h3
      clear hout hb
      go_enter Tryd.func64, Tryd.ntmps64
      go_wp2
      go_step3
      go_wp2_with fail
      with_reducible refine (HIB.out).mono ?_
      rintro e w1 ⟨rfl, rfl⟩
      go_wp2
      rw [Exit.noGoto_ret]
      go_ret2
      rw [HP.out]
      exact ⟨none, 0, rfl, at_nil _ _ _ _, fun _ => rfl, by simp, Below.refl _ _⟩
    · have d3 : decide (n < 0) = false := decide_eq_false h3
      have h4 : 2147483647 < n := by omega
      have d4 : decide (2147483647 < n) = true := decide_eq_true h4
      clear hout hb
      go_enter Tryd.func64, Tryd.ntmps64
      go_wp2
      go_step3
      go_wp2_with fail
      with_reducible refine (HIB.out).mono ?_
      rintro e w1 ⟨rfl, rfl⟩
      go_wp2
      rw [Exit.noGoto_ret]
      go_ret2
      rw [HP.out]
      exact ⟨none, 0, rfl, at_nil _ _ _ _, fun _ => rfl, by simp, Below.refl _ _⟩
  · rw [decide_eq_false hb] at HIB
    clear hout hb
    go_enter Tryd.func64, Tryd.ntmps64
    go_wp2
    go_step3
    go_wp2_with fail
    with_reducible refine (HIB.out).mono ?_
    rintro e w1 ⟨rfl, rfl⟩
    go_wp2
    rw [Exit.noGoto_ret]
    go_ret2
    rw [HP.out]
    exact ⟨none, 0, rfl, at_nil _ _ _ _, fun _ => rfl, by simp, Below.refl _ _⟩
set_option maxRecDepth 100000 in
set_option maxHeartbeats 4000000 in
theorem put_own (h B m : Nat) (w : World) (hh : h < 256) (hB1 : 1 ≤ B) (hB8 : B ≤ 8) (hm : m ≤ 2147483647) : Calls Tryd.prog 64 #[.int .u8 h, .int .i64 (B : Int), .int .i64 (m : Int)] w (PutRow w (put h B m)) := by
  obtain ⟨F, hF⟩ : ∃ F, F = full B := ⟨_, rfl⟩
  have hF2 : F < 256 := by rw [hF]; have := full_bound hB8; have := full_lt B; omega
  obtain ⟨D, hD⟩ : ∃ D, D = hd h B := ⟨_, rfl⟩
  have hDl : D + F < 256 := by rw [hD, hF]; exact hd_byte h B _ hh hB8 (full_lt B)
  have eD : bits BinOp.andNot IntKind.u8 (h : Int) (F : Int) = (D : Int) := by
    rw [u8_andNot_nat h F hh (by omega), hF, hD, full, hd]
    exact congrArg _ (clear_low ⟨B, by omega⟩ ⟨h, hh⟩)
  have HDM : Hid (∀ r, r ≤ F → bits BinOp.or IntKind.u8 (D : Int) (r : Int) = ((D + r : Nat) : Int)) := Lib.hid (fun r hr => by
    have := full_lt B
    rw [u8_or_nat D r (by omega) (by omega), nat_join B D r (by rw [hD, hd, Nat.mul_mod_left]) (by omega)])
  have HPUT : Hid (put h B m = if m < F then [D + m] else (D + F) :: grp (m - F)) := Lib.hid (by rw [hF, hD]; rfl)
  have fw : IntKind.u8.wrap (F : Int) = (F : Int) := by rw [IntKind.wrap_u8']; omega
  have HIB := Lib.hid (inByte_any (B : Int) w)
  rw [decide_eq_true (show 1 ≤ (B : Int) ∧ (B : Int) ≤ 8 by omega)] at HIB
  have HON := Lib.hid (ones_any B w hB1 hB8)
  rw [← hF] at HON
  obtain ⟨D2, hD2⟩ : ∃ D2, D2 = D + F := ⟨_, rfl⟩
  have eDF : (D : Int) + (F : Int) = (D2 : Int) := by omega
  obtain ⟨l, hl⟩ : ∃ l, l = D2 :: grp (m - F) := ⟨_, rfl⟩
  have HL := Lib.hid hl
  have HLN : Hid (m < F ∨ put h B m = l) := Lib.hid (by
    rcases Nat.lt_or_ge m F with h1 | h1
    · exact Or.inl h1
    · exact Or.inr (by rw [HPUT.out, if_neg (by omega), hl, hD2]))
  clear hF hD hD2 hl
  go_enter Tryd.func64, Tryd.ntmps64
  go_wp2
  by_cases hlt : m < F
  · have mw : IntKind.u8.wrap (m : Int) = (m : Int) := by rw [IntKind.wrap_u8']; omega
    have eo := HDM.out m (by omega)
    go_step3
    go_wp2_with fail
    with_reducible refine (HIB.out).mono ?_
    rintro e w1 ⟨rfl, rfl⟩
    go_wp2_with fail
    with_reducible refine (HON.out).mono ?_
    rintro e w1 ⟨rfl, rfl⟩
    go_wp2
    rw [Exit.noGoto_ret]
    go_ret2
    rw [HPUT.out, if_pos hlt]
    exact ⟨_, rfl, own_one w w.heap.size (D + m) (Nat.le_refl _), (Below.refl _ _).alloc (Nat.le_refl _) _⟩
  refine wp_scope_one 0 (PJ h B F D w l) (fun a _ => (intOf (a.tmps.getD 2 undef)).toNat) rfl ?_ ?_
  · rintro a wr ⟨t, v, u11, u12, u13, u14, u15, u16, u17, u18, u19, u20, u21, u22, u23, u24, u25, u26, u27, u28, u29, u30, u31, u32, u33, u34, u35, u36, u37, u38, u39, u40, u41, u42, u43, u44, u45, u46, u47, u48, u49, u50, u51, u52, u53, u54, u55, u56, u57, u58, u59, o, rfl, ht, ho, hog, hrow⟩
    have hol : o.length + nd t + 1 ≤ 6 := by
      have := congrArg List.length hog
      rw [HL.out, List.length_append, List.length_cons, grp_len, grp_len] at this
      have := grp_nd (m := m - F) (by omega)
      omega
    have HOG := Lib.hid hog
    clear hog HIB HON
    by_cases h128 : t < 128
    · have tw : IntKind.u8.wrap (t : Int) = (t : Int) := by rw [IntKind.wrap_u8']; omega
      have d128 : decide ((127 : Int) < (t : Int)) = false := decide_eq_false (by omega)
      obtain ⟨K, hK⟩ : ∃ K, (o ++ [t]).length = K := ⟨_, rfl⟩
      have HK := Lib.hid hK
      clear hK
      go_wp2_with (at_builtin; refine wpList_append_at rfl (.tmp 55) (.tmp 58) rfl w.heap.size _ o rfl (hrow.1.alloc _) (some ⟨wr.heap.size, 0, none⟩) [t] _ 1 rfl rfl (fun h => by cases h) _ (At.new wr [t] 5 (0, 0)) ?_ ?_ ?_; (rotate_right; intro v9 w9 hown9 hg9; rw [HK.out] at hown9; obtain ⟨A9, c9, rfl⟩ := own_shape hown9))
      · have hb9 := (hrow.2.alloc hrow.2.size _).grown hg9 (by have := hrow.2.size; simp; omega) (own_block hrow.1)
        clear hg9 hrow
        go_wp2
        simp only [Exit.jump]
        go_ret2
        have e : put h B m = o ++ [t] := by rw [HLN.out.resolve_left hlt, ← HOG.out, grp_low h128]
        rw [e]
        exact ⟨_, rfl, by rw [HK.out]; exact hown9, hb9⟩
      all_goals first | (simp; omega) | (have := hrow.2.size; simp; omega) | simp
    · obtain ⟨r, hr⟩ : ∃ r, r = t % 128 := ⟨_, rfl⟩
      obtain ⟨q, hq⟩ : ∃ q, q = t / 128 := ⟨_, rfl⟩
      obtain ⟨r2, hr2⟩ : ∃ r2, r2 = r + 128 := ⟨_, rfl⟩
      have er : bits BinOp.and IntKind.i64 (t : Int) 127 = (r : Int) := by rw [i64_and127]; omega
      have er2 : bits BinOp.or IntKind.i64 (r : Int) 128 = (r2 : Int) := by
        have := i64_or_nat r 128 (by omega) (by omega)
        rw [Nat.or_comm, nat_join 7 128 r (by omega) (by omega)] at this
        rw [hr2, Nat.add_comm]
        exact this
      have rw2 : IntKind.u8.wrap (r2 : Int) = (r2 : Int) := by rw [IntKind.wrap_u8']; omega
      have eq : (t : Int) / 128 = (q : Int) := by omega
      have d128 : decide ((127 : Int) < (t : Int)) = true := decide_eq_true (by omega)
      have HQ : Hid (o ++ [r2] ++ grp q = l) := Lib.hid (by rw [← HOG.out, grp_high h128, List.append_assoc, List.singleton_append, hr2, hr, hq])
      have hqt : q < t ∧ q ≤ 2147483647 := by omega
      have ho5 : o.length ≤ 5 := by omega
      clear hr hq hr2
      go_wp2_with (at_builtin; refine wpList_append_at rfl (.tmp 46) (.tmp 51) rfl w.heap.size _ o rfl (hrow.1.alloc _) (some ⟨wr.heap.size, 0, none⟩) [r2] _ 1 rfl rfl (fun h => by cases h) _ (At.new wr [r2] 5 (0, 0)) ?_ ?_ ?_; (rotate_right; intro v9 w9 hown9 hg9))
      · have hb9 := (hrow.2.alloc hrow.2.size _).grown hg9 (by have := hrow.2.size; simp; omega) (own_block hrow.1)
        clear hg9 hrow
        go_wp2
        go_step3
        refine ⟨rfl, ⟨q, _, _, _, _, _, _, _, _, _, _, _, _, _, _, _, _, _, _, _, _, _, _, _, _, _, _, _, _, _, _, _, _, _, _, _, _, _, _, _, _, _, _, _, _, _, _, _, _, _, _, o ++ [r2], rfl, hqt.2, by simp; omega, HQ.out, hown9, hb9⟩, ?_⟩
        simp [intOf]
        omega
      all_goals first | (simp; omega) | (have := hrow.2.size; simp; omega) | simp
  · intro HPS
    have eo := HDM.out F (by omega)
    obtain ⟨M, hM⟩ : ∃ M, M = m - F := ⟨_, rfl⟩
    have eM : (m : Int) - (F : Int) = (M : Int) := by omega
    have HM := Lib.hid hM
    have hM2 : M ≤ 2147483647 := by omega
    clear hM
    go_wp2_with fail
    with_reducible refine (HIB.out).mono ?_
    rintro e w1 ⟨rfl, rfl⟩
    go_wp2_with fail
    with_reducible refine (HON.out).mono ?_
    rintro e w1 ⟨rfl, rfl⟩
    go_wp2
    go_step3
    rename_i hK
    refine hK _ _ (HPS.out _ _ ⟨M, _, _, _, _, _, _, _, _, _, _, _, _, _, _, _, _, _, _, _, _, _, _, _, _, _, _, _, _, _, _, _, _, _, _, _, _, _, _, _, _, _, _, _, _, _, _, _, _, _, _, [D2], rfl, hM2, by simp, by rw [HL.out, HM.out]; rfl, own_one w w.heap.size D2 (Nat.le_refl _), (Below.refl _ _).alloc (Nat.le_refl _) _⟩)
theorem put_in (h B m : Nat) (w : World) (hh : h < 256) (hB1 : 1 ≤ B) (hB8 : B ≤ 8) (hm : m ≤ 2147483647) : Calls Tryd.prog 64 #[.int .u8 h, .int .i64 (B : Int), .int .i64 (m : Int)] w (PutPost w (put h B m, 0)) := (put_own h B m w hh hB1 hB8 hm).mono fun _ _ h => h.post
/-- Put, at all arguments. -/
theorem pput_f (h : Nat) (b n : Int) (w : World) (_ : Rdy w) (hh : h < 256) (_ : Rng b) (_ : Rng n) : Calls Tryd.prog 64 #[.int .u8 h, .int .i64 b, .int .i64 n] w (PutPost w (putI h b n)) := by
  by_cases hin : 1 ≤ b ∧ b ≤ 8 ∧ 0 ≤ n ∧ n ≤ 2147483647
  · obtain ⟨B, rfl⟩ : ∃ v : Nat, b = (v : Int) := ⟨b.toNat, by omega⟩
    obtain ⟨m, rfl⟩ : ∃ v : Nat, n = (v : Int) := ⟨n.toNat, by omega⟩
    rw [putI_in (by omega) (by omega)]
    exact put_in h B m w hh (by omega) (by omega) (by omega)
  · exact put_out h b n w hin
end Go.Proofs.YtiandidencnlcaaDoor
/- Words for memory: lists of fields (name, value, never) that lie somewhere; an argument that is such a list. From stage 6 on. -/
namespace Go.Proofs.YtiandidencnlcaaDoor
open Go.ChangeShapes Go.WideShapes Go.ChangeAt Go.RowKit Go.Deep

/-- A field. -/
structure Fld where
  name : ByteArray
  value : ByteArray
  never : Bool
/-- The fields l lie at A, below block B, three cells each; where there is none, A is whatever. -/
def AtF (w : World) (B : Nat) (A : Option Addr) (l : List Fld) : Prop :=
  l ≠ [] → ∃ b o, A = some ⟨b, o, none⟩ ∧ b < B ∧ ∀ i (h : i < l.length), w.cell? ⟨b, o + i * 3, none⟩ = some (.string l[i].name) ∧ w.cell? ⟨b, o + i * 3 + 1, none⟩ = some (.string l[i].value) ∧ w.cell? ⟨b, o + i * 3 + 2, none⟩ = some (.bool l[i].never)
theorem atF_nil (w : World) (B : Nat) (A : Option Addr) : AtF w B A [] := fun h => absurd rfl h
theorem AtF.below {w w' : World} {B C : Nat} {A : Option Addr} {l : List Fld} (h : AtF w B A l) (hb : Below C w w') (hC : B ≤ C) : AtF w' B A l := fun hl => by
  obtain ⟨b, o, e, hB, hc⟩ := h hl
  refine ⟨b, o, e, hB, fun i hi => ?_⟩
  obtain ⟨h0, h1, h2⟩ := hc i hi
  exact ⟨(hb.cell (p := ⟨b, o + i * 3, none⟩) (by show b < C; omega)).trans h0, (hb.cell (p := ⟨b, o + i * 3 + 1, none⟩) (by show b < C; omega)).trans h1, (hb.cell (p := ⟨b, o + i * 3 + 2, none⟩) (by show b < C; omega)).trans h2⟩
theorem AtF.more {w : World} {B C : Nat} {A : Option Addr} {l : List Fld} (h : AtF w B A l) (hC : B ≤ C) : AtF w C A l := fun hl => by
  obtain ⟨b, o, e, hB, hc⟩ := h hl
  exact ⟨b, o, e, by omega, hc⟩
theorem AtF.up {w w' : World} {A : Option Addr} {l : List Fld} (h : AtF w w.heap.size A l) (hb : Below w.heap.size w w') : AtF w' w'.heap.size A l := (h.below hb (Nat.le_refl _)).more hb.size
theorem AtF.pos {w : World} {B : Nat} {A : Option Addr} {l : List Fld} (h : AtF w B A l) (hl : 0 < l.length) : ∃ b o, A = some ⟨b, o, none⟩ ∧ b < B ∧ ∀ i (h : i < l.length), w.cell? ⟨b, o + i * 3, none⟩ = some (.string l[i].name) ∧ w.cell? ⟨b, o + i * 3 + 1, none⟩ = some (.string l[i].value) ∧ w.cell? ⟨b, o + i * 3 + 2, none⟩ = some (.bool l[i].never) :=
  h (List.length_pos_iff.1 hl)
theorem below_drewN {B : Nat} {w w' : World} (h : Below B w w') (n : Nat) : Below B w (w'.drewN n) := ⟨h.os, h.tape, h.output, h.size, h.block⟩
theorem cellsFd : Tryd.prog.cellsOf 52 = 3 := by kernel_rfl
theorem cellsStr : Tryd.prog.cellsOf 9 = 1 := by kernel_rfl
theorem cellsBool : Tryd.prog.cellsOf 4 = 1 := by kernel_rfl
/-- One field's cells, out of its reading. -/
theorem fld_of {H : Type} {enc : TypeId × Value → H} {W : World} {base n : Nat} {sp : Nat → Bool} {held : Bool} {cs : List Value} {x : DataW H × List MemPlace}
    (h : DataW.trod enc Tryd.prog W base sp held n 52 cs = some x) : ∃ f : Fld, cs = [.string f.name, .string f.value, .bool f.never] ∧ f.name.size ≤ maxLen ∧ f.value.size ≤ maxLen := by
  obtain ⟨y0, y1, y2, m, _, hl, h0, h1, h2⟩ := trod_struct3 Tryd.underlying52 h
  rw [cellsFd] at hl
  simp only [cellsStr, cellsBool] at h0 h1 h2
  match cs, hl with
  | [c0, c1, c2], _ =>
    obtain ⟨s0, e0, _, b0⟩ := DataW.trod_string Tryd.underlying9 h0
    obtain ⟨s1, e1, _, b1⟩ := DataW.trod_string Tryd.underlying9 h1
    obtain ⟨v2, e2, _⟩ := DataW.trod_bool Tryd.underlying4 h2
    simp at e0 e1 e2
    subst e0 e1 e2
    exact ⟨⟨s0, s1, v2⟩, rfl, b0, b1⟩
/-- A list of fields that came in. -/
theorem openedF {H : Type} {enc : TypeId × Value → H} {W : World} {a : Option Addr} {len cap : Nat} {d : DataW H} {p : List MemPlace}
    (h : DataW.Trod enc Tryd.prog W 0 (fun _ => true) true 30 (.slice a len cap) d p) :
    ∃ l : List Fld, l.length = len ∧ len ≤ cap ∧ (a = none → cap = 0) ∧ (∀ f ∈ l, f.name.size ≤ maxLen ∧ f.value.size ≤ maxLen) ∧ AtF W W.heap.size a l := by
  obtain ⟨fuel, hf⟩ := h
  rcases open_slice Tryd.underlying30 hf with ⟨hcs, _⟩ | ⟨ad, len', cap', m, n, D, Pl, hcs, _, hl, hm, hmm, _, hi⟩
  · simp [Value.cells] at hcs
    obtain ⟨rfl, rfl, rfl⟩ := hcs
    exact ⟨[], rfl, Nat.le_refl _, fun _ => rfl, fun f hf => by simp at hf, atF_nil _ _ _⟩
  · simp [Value.cells] at hcs
    obtain ⟨rfl, rfl, rfl⟩ := hcs
    rw [cellsFd] at hi
    simp only [if_true] at hmm
    subst hmm
    have hF : ∀ i, i < m → ∃ f : Fld, (f.name.size ≤ maxLen ∧ f.value.size ≤ maxLen) ∧ W.cell? ((ad.add (i * 3)).add 0) = some (.string f.name) ∧ W.cell? ((ad.add (i * 3)).add 1) = some (.string f.value) ∧ W.cell? ((ad.add (i * 3)).add 2) = some (.bool f.never) := by
      intro i him
      obtain ⟨cs', hc, ht⟩ := hi i him
      obtain ⟨f, rfl, b0, b1⟩ := fld_of ht
      obtain ⟨_, _, hat⟩ := World.cells?_some hc
      exact ⟨f, ⟨b0, b1⟩, by simpa using hat 0 (by omega), by simpa using hat 1 (by omega), by simpa using hat 2 (by omega)⟩
    have hC : ∃ F : Nat → Fld, ∀ i, i < m → ((F i).name.size ≤ maxLen ∧ (F i).value.size ≤ maxLen) ∧ W.cell? ((ad.add (i * 3)).add 0) = some (.string (F i).name) ∧ W.cell? ((ad.add (i * 3)).add 1) = some (.string (F i).value) ∧ W.cell? ((ad.add (i * 3)).add 2) = some (.bool (F i).never) := by
      refine ⟨fun i => if h : i < m then Classical.choose (hF i h) else ⟨ByteArray.empty, ByteArray.empty, false⟩, fun i h => ?_⟩
      simp only [dif_pos h]
      exact Classical.choose_spec (hF i h)
    obtain ⟨F, hFs⟩ := hC
    refine ⟨(List.range len).map F, by simp, hl, (fun h => by cases h), fun f hf => ?_, fun hne => ?_⟩
    · simp only [List.mem_map, List.mem_range] at hf
      obtain ⟨i, hi1, rfl⟩ := hf
      exact (hFs i (by omega)).1
    · have hpos : 0 < len := by
        rcases Nat.eq_zero_or_pos len with h0 | h0
        · subst h0; simp at hne
        · exact h0
      obtain ⟨b, o, spot⟩ := ad
      have hspot : spot = none := by simpa [Addr.add] using World.cell?_spot (hFs 0 (by omega)).2.1
      subst hspot
      refine ⟨b, o, rfl, ?_, fun i hi1 => ?_⟩
      · have h0 := (hFs 0 (by omega)).2.1
        have := World.block_lt_of_cell? W _ h0
        simpa [Addr.add] using this
      · have hi2 : i < len := by simpa using hi1
        obtain ⟨_, h0, h1, h2⟩ := hFs i (by omega)
        simp only [Go.WideShapes.add_plain] at h0 h1 h2
        simp only [List.getElem_map, List.getElem_range]
        exact ⟨h0, h1, h2⟩
end Go.Proofs.YtiandidencnlcaaDoor
/- What a call that answers one number, or one bool, hands back. -/
namespace Go.Proofs.YtiandidencnlcaaDoor
open Go.RowKit

def NumPost (w : World) (n : Nat) (e : Ending) (w' : World) : Prop := e = .returned (.int .i64 (n : Int)) ∧ Below w.heap.size w w'
def BoolPost (w : World) (v : Bool) (e : Ending) (w' : World) : Prop := e = .returned (.bool v) ∧ Below w.heap.size w w'
end Go.Proofs.YtiandidencnlcaaDoor
