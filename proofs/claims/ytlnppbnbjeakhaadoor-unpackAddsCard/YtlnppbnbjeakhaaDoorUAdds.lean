/- The walk of UnpackAdds. -/
import Derived.Test.YtlnppbnbjeakhaaDoorUUse
import Derived.Test.YtlnppbnbjeakhaaDoorUMath4
import Derived.Test.YtlnppbnbjeakhaaDoorLAppS
import Derived.Test.YtlnppbnbjeakhaaDoorLLit
import Derived.Test.YtlnppbnbjeakhaaDoorSFace
import Derived.Test.YtlnppbnbjeakhaaDoorUStatic
namespace Go.Proofs.YtlnppbnbjeakhaaDoor
open Go.RowKit

/-- Fields that lie in blocks that a decoder does not turn stay. -/
theorem Outs.atF {wr w' : World} {X : Nat → Prop} {A A2 : Option Addr} {c2 : Nat} {out l : List Fld} (ho : Outs wr X A2 c2 out w') (h : AtF wr wr.heap.size A l) (hX : ∀ b o s, A = some ⟨b, o, s⟩ → X b) : AtF w' w'.heap.size A l := fun hl => by
  obtain ⟨b, o, e, hB, hc⟩ := h hl
  have hk := ho.kept b (hX b o none e)
  refine ⟨b, o, e, Nat.lt_of_lt_of_le hB ho.size, fun i hi => ?_⟩
  obtain ⟨c0, c1, c2⟩ := hc i hi
  exact ⟨(World.cell?_of_block (a := ⟨b, o + i * 3, none⟩) hk).trans c0, (World.cell?_of_block (a := ⟨b, o + i * 3 + 1, none⟩) hk).trans c1, (World.cell?_of_block (a := ⟨b, o + i * 3 + 2, none⟩) hk).trans c2⟩
/-- Bytes that lie in blocks that a decoder does not turn stay. -/
theorem Outs.atB {wr w' : World} {X : Nat → Prop} {A A2 : Option Addr} {c2 : Nat} {out : List Fld} {l : List Nat} (ho : Outs wr X A2 c2 out w') (h : At .u8 wr wr.heap.size A l) (hX : ∀ a, A = some a → X a.block) : At .u8 w' w'.heap.size A l := fun hl => by
  obtain ⟨b, o, e, hB, hc⟩ := h hl
  have hk := ho.kept b (hX _ e)
  exact ⟨b, o, e, Nat.lt_of_lt_of_le hB ho.size, fun i hi => (World.cell?_of_block (a := ⟨b, o + i, none⟩) hk).trans (hc i hi)⟩
theorem same_self (n v : ByteArray) (b : Bool) : sames [⟨n, v, b⟩] [⟨n, v, false⟩] = true := by simp [sames, alike]
theorem same_two (n v : ByteArray) : sames [⟨n, v, false⟩, ⟨n, v, false⟩] [⟨n, v, false⟩, ⟨n, v, false⟩] = true := by simp [sames, alike]
theorem row_lit2 (w : World) (b : Nat) : (w.alloc (.cells #[.int .u8 64, .int .u8 (b : Int)] 5)).ownsRow w.heap.size 5 1 (.slice (some ⟨w.heap.size, 0, none⟩) 2 2) 2 (cn .u8 [64, b]) :=
  World.ownsRow_lit w #[.int .u8 64, .int .u8 (b : Int)] 2 (Nat.le_refl _) (by unfold maxLen; omega) rfl
theorem row_len {w w' : World} {B T n : Nat} {v v' : Value} {l : List Nat} {xs : List Value} (h : w.ownsRow B T 1 v n (cn .u8 l)) (h' : w'.ownsRow B T 1 v' n xs) : w'.ownsRow B T 1 v' l.length xs := by
  have hx : l.length = n := by have := h.1; rw [cn_len] at this; omega
  rw [hx]
  exact h'
namespace unpackAdds
set_option maxRecDepth 100000 in
set_option maxHeartbeats 4000000 in
theorem walk_not (nm va : ByteArray) (w : World) (hR : Rdy w) (h1 : nm.size ≤ maxLen) (h2 : va.size ≤ maxLen) (ho : 100 < nm.size ∨ 20 < va.size) : Calls Tryd.prog 6 #[.string nm, .string va] w (Yes w) := by
  have HR := Lib.hid fun (w' : World) (hb : Below w.heap.size w w') => hR.below hb
  have HFI := Lib.hid (first_any w hR)
  obtain ⟨nl, hnl⟩ : ∃ n, n = nm.size := ⟨_, rfl⟩
  obtain ⟨vl, hvl⟩ : ∃ n, n = va.size := ⟨_, rfl⟩
  have sn : nm.size = nl := hnl.symm
  have sv : va.size = vl := hvl.symm
  rw [sn] at ho h1
  rw [sv] at ho h2
  unfold maxLen at h1 h2
  clear hR hnl hvl
  rcases (show (100 : Int) < (nl : Int) ∨ (¬ (100 : Int) < (nl : Int) ∧ (20 : Int) < (vl : Int)) by omega) with c1 | ⟨c1, c2⟩
  all_goals
    go_enter Tryd.func6, Tryd.ntmps6
    go_wp2_with fail
    with_reducible refine (HFI.out).mono ?_
    rintro e w1 ⟨rfl, hb1⟩
    have HN := Lib.hid (HasU.new (HR.out _ hb1) hb1)
    go_wp2_with fail
    with_reducible refine (HN.out).mono ?_
    rintro e w2 ⟨p, t, rfl, hH, _⟩
    have hb2 := hH.below
    have HF2 := Lib.hid (first_any w2 (HR.out _ hb2))
    clear HN hH
    go_wp2_with fail
    with_reducible refine (HF2.out).mono ?_
    rintro e w3 ⟨rfl, hbn⟩
    have hb3 := hb2.trans (hbn.mono hb2.size)
    go_wp2_with fail
    go_ret
    exact ⟨rfl, hb3⟩
set_option maxRecDepth 100000 in
set_option maxHeartbeats 16000000 in
theorem walk_in (nm va : ByteArray) (w : World) (hR : Rdy w) (h1 : nm.size ≤ 100) (h2 : va.size ≤ 20) : Calls Tryd.prog 6 #[.string nm, .string va] w (Yes w) := by
  have HR := Lib.hid fun (w' : World) (hb : Below w.heap.size w w') => hR.below hb
  have HFI := Lib.hid (first_any w hR)
  obtain ⟨nl, hnl⟩ : ∃ n, n = nm.size := ⟨_, rfl⟩
  obtain ⟨vl, hvl⟩ : ∃ n, n = va.size := ⟨_, rfl⟩
  have sn : nm.size = nl := hnl.symm
  have sv : va.size = vl := hvl.symm
  rw [sn] at h1
  rw [sv] at h2
  have c1 : ¬ (100 : Int) < (nl : Int) := by omega
  have c2 : ¬ (20 : Int) < (vl : Int) := by omega
  have e1 : IntKind.u8.wrap (nl : Int) = (nl : Int) := by rw [IntKind.wrap_u8']; omega
  have e2 : IntKind.u8.wrap (vl : Int) = (vl : Int) := by rw [IntKind.wrap_u8']; omega
  -- the three blocks, over plain values
  obtain ⟨L3, hL3⟩ : ∃ l, l = [64, nl] ++ nums nm := ⟨_, rfl⟩
  obtain ⟨L4, hL4⟩ : ∃ l, l = L3 ++ [vl] := ⟨_, rfl⟩
  obtain ⟨L5, hL5⟩ : ∃ l, l = L4 ++ nums va := ⟨_, rfl⟩
  have hN : (nums nm).length = nl := by rw [nums_len, sn]
  have hV : (nums va).length = vl := by rw [nums_len, sv]
  have hF5 : L5 = 64 :: (nums nm).length :: (nums nm ++ ((nums va).length :: (nums va ++ []))) := by rw [hL5, hL4, hL3, hN, hV]; simp
  have hD1 := dec_add (nums nm) (nums va) (by omega) (by omega)
  have hD2 := dec_plain (nums nm) (nums va) (by omega) (by omega)
  have hD3 := dec_never (nums nm) (nums va) (by omega) (by omega) [⟨nm, va, false⟩]
  rw [str_nums, str_nums] at hD1 hD2 hD3
  rw [← hF5] at hD1
  have hF6 : (0 :: (nums nm).length :: (nums nm ++ ((nums va).length :: (nums va ++ [190])))) = L5.set 0 0 ++ [190] := by rw [hF5]; simp
  have hF7 : (16 :: (nums nm).length :: (nums nm ++ ((nums va).length :: (nums va ++ [])))) = L5.set 0 16 := by rw [hF5]; simp
  rw [hF6] at hD2
  rw [hF7] at hD3
  have h256 : ∀ x ∈ L5, x < 256 := by
    rw [hL5, hL4, hL3]
    intro x hx
    simp only [List.mem_append, List.mem_cons, List.not_mem_nil, or_false] at hx
    rcases hx with (((rfl | rfl) | hx) | rfl) | hx
    · omega
    · omega
    · exact nums_lt nm x hx
    · omega
    · exact nums_lt va x hx
  have h0256 : ∀ k, k < 256 → ∀ x ∈ L5.set 0 k, x < 256 := fun k hk x hx => by
    rcases List.mem_or_eq_of_mem_set hx with h | h
    · exact h256 x h
    · omega
  obtain ⟨n5, hn5⟩ : ∃ n, n = nl + vl + 3 := ⟨_, rfl⟩
  have hl5 : L5.length = n5 := by rw [hL5, hL4, hL3]; simp only [List.length_append, List.length_cons, List.length_nil, hN, hV]; omega
  have H5 := Lib.hid hl5
  have HD1 := Lib.hid hD1
  have HD2 := Lib.hid hD2
  have HD3 := Lib.hid hD3
  have H256 := Lib.hid h256
  have H0256 := Lib.hid h0256
  have HL3 := Lib.hid hL3
  have HL4 := Lib.hid hL4
  have HL5 := Lib.hid hL5
  have hn123 : n5 ≤ 123 := by omega
  have n5p : (0 : Int) < (n5 : Int) := by omega
  obtain ⟨n3, hn3⟩ : ∃ n, n = 2 + nl := ⟨_, rfl⟩
  obtain ⟨n4, hn4⟩ : ∃ n, n = n3 + 1 := ⟨_, rfl⟩
  have HN3 := Lib.hid hn3
  have HN4 := Lib.hid hn4
  have HN5 : Hid (n5 = n4 + vl) := Lib.hid (by omega)
  have hn3b : n3 ≤ 102 := by omega
  have hn4b : n4 ≤ 103 := by omega
  have HSV := Lib.hid sv
  have HL3L : Hid (L3.length = n3) := Lib.hid (by rw [hL3, hn3]; simp only [List.length_append, List.length_cons, List.length_nil, hN])
  have HL4L : Hid (L4.length = n4) := Lib.hid (by rw [hL4, hn4, List.length_append, HL3L.out]; rfl)
  have HSN := Lib.hid sn
  clear hR hnl hvl hL3 hL4 hL5 hN hV hF5 hF6 hF7 hD1 hD2 hD3 h256 h0256 hn5 hl5 hn3 hn4
  go_enter Tryd.func6, Tryd.ntmps6
  go_wp2_with fail
  with_reducible refine (HFI.out).mono ?_
  rintro e w1 ⟨rfl, hb1⟩
  have HN := Lib.hid (HasU.new (HR.out _ hb1) hb1)
  clear hb1 HFI
  go_wp2_with fail
  with_reducible refine (HN.out).mono ?_
  rintro e w2 ⟨p, t, rfl, hH2, _⟩
  have HH2 := Lib.hid hH2
  have HO3 := Lib.hid (row_lit2 w2 nl)
  clear hH2 HN
  -- the first block is written
  go_wp2_with (first
    | (at_builtin; refine wpList_append_s rfl (.tmp 44) (.tmp 45) rfl w2.heap.size _ 2 [64, nl] rfl HO3.out nm rfl (by have := HSN.out; omega) (by simp) ?_; intro v3 w3 hown3 hg3; rw [← HL3.out, HSN.out, ← HN3.out] at hown3; obtain ⟨g3, cp3, rfl, hg3B, hown3'⟩ := own_form hown3 (by have := HN3.out; omega); have HB3 : Hid (Below w2.heap.size w2 w3) := Lib.hid (((Below.refl _ _).alloc (Nat.le_refl _) _).grown hg3 (by simp) (own_block HO3.out)); have HO4 : Hid ((w3.alloc (.cells #[.int .u8 (vl : Int)] 5)).ownsRow w2.heap.size 5 1 (.slice (some ⟨g3, 0, none⟩) n3 cp3) L3.length (cn .u8 L3)) := Lib.hid (row_len hown3 (hown3.alloc _)); clear hown3 hg3 hown3')
    | (at_builtin; refine wpList_append_at rfl (.tmp 46) (.tmp 50) rfl w2.heap.size _ L3 rfl HO4.out (some ⟨w3.heap.size, 0, none⟩) [vl] _ 1 rfl rfl (fun h => by cases h) _ (At.new w3 [vl] 5 (0, 0)) (by have := HL3L.out; simp only [List.length_cons, List.length_nil]; omega) (by have := HB3.out.size; simp; omega) ?_; intro v4 w4 hown4 hg4; rw [← HL4.out, HL4L.out] at hown4; obtain ⟨g4, cp4, rfl, hg4B, hown4'⟩ := own_form hown4 (by have := HN4.out; omega); have HB4 : Hid (Below w2.heap.size w2 w4) := Lib.hid ((HB3.out.alloc HB3.out.size _).grown hg4 (by have := HB3.out.size; simp; omega) (own_block HO4.out)); have HO5 := Lib.hid hown4; clear hown4 hg4 hown4' HO4)
    | (at_builtin; refine wpList_append_s rfl (.tmp 51) (.tmp 52) rfl w2.heap.size _ n4 L4 rfl HO5.out va rfl (by have := HSV.out; omega) (HB4.out.size) ?_; intro v5 w5 hown5 hg5; rw [← HL5.out, HSV.out, ← HN5.out] at hown5; obtain ⟨g5, cp5, rfl, hg5B, hown5'⟩ := own_form hown5 (by have := HN5.out; have := HN4.out; omega); have HB5 : Hid (Below w2.heap.size w2 w5) := Lib.hid (HB4.out.grown hg5 HB4.out.size (own_block HO5.out)); have HO6 := Lib.hid hown5; clear hown5 hg5 hown5' HO5))
  have hg5l : g5 < w5.heap.size := (HO6.out.lt g5 rfl).2
  have hH5 := HH2.out.more HB5.out
  have hD := hH5.dec (HR.out _ hH5.below) (some ⟨g5, 0, none⟩) L5 n5 cp5 100000 (At.of_own HO6.out) H256.out H5.out (fun h => by cases h) (own_cap HO6.out) (by omega) (fun _ a ha => by injection ha with ha; subst ha; exact .inr ⟨hg5B, hg5l⟩) (by unfold Rng; omega)
  rw [HD1.out] at hD
  simp only [List.length_cons, List.length_nil] at hD
  have HDC := Lib.hid hD
  clear hD hH5 HH2 HB3 HB4 HD1
  go_wp2_with fail
  with_reducible refine (HDC.out).mono ?_
  rintro e w6 ⟨A6, c6, rfl, hH6, ho6⟩
  obtain ⟨b6, o6, rfl, hb6l, _⟩ := ho6.at' (by simp)
  have hP6 : At .u8 w6 w6.heap.size (some ⟨g5, 0, none⟩) L5 := ho6.atB (At.of_own HO6.out) (fun a ha => by injection ha with ha; subst ha; exact .inr ⟨hg5B, hg5l⟩)
  have hg6l : g5 < w6.heap.size := Nat.lt_of_lt_of_le hg5l ho6.size
  have hH6' : HasU w (fun x => x = g5 ∨ x = b6) p t 4096 [⟨nm, va, false⟩] false w6 := hH6.less (fun x hx => by
    rcases hx with rfl | rfl
    · exact .inl (.inr ⟨hg5B, hg5l⟩)
    · exact .inr ⟨hb6l, _, _, rfl⟩)
  have HH6 := Lib.hid hH6'
  have HP6 := Lib.hid hP6
  have HA6 := Lib.hid ho6.at'
  have hc6 := ho6.cap
  have HO7 : Hid ((w6.alloc (.cells #[] 5)).ownsRow w6.heap.size 5 1 (.slice (some ⟨w6.heap.size, 0, none⟩) 0 0) ([] : List Nat).length (cn .u8 [])) := Lib.hid (own_empty w6 _ (Nat.le_refl _))
  have HP7 : Hid (At .u8 (w6.alloc (.cells #[] 5)) (w6.alloc (.cells #[] 5)).heap.size (some ⟨g5, 0, none⟩) L5) := Lib.hid (hP6.up ((Below.refl _ _).alloc (Nat.le_refl _) _))
  clear hH6 ho6 hP6 HO6 HDC hH6' HB5
  -- the second block
  go_upto_region 10 with (at_builtin; refine wpList_append_at rfl (.tmp 60) (.tmp 61) rfl w6.heap.size _ [] rfl HO7.out (some ⟨g5, 0, none⟩) L5 _ cp5 H5.out rfl (fun h => by cases h) _ HP7.out (by have := H5.out; simp only [List.length_nil]; omega) (by simp) ?_; intro v7 w7 hown7 hg7; rw [List.nil_append, H5.out] at hown7; obtain ⟨g7, cp7, rfl, hg7B, hown7'⟩ := own_form hown7 (by have := HN5.out; have := HN4.out; omega); have HB7 : Hid (Below w6.heap.size w6 w7) := Lib.hid (((Below.refl _ _).alloc (Nat.le_refl _) _).grown hg7 (by simp) (own_block HO7.out)); have k7 := own_at hown7' (i := 0) (by have := H5.out; have := HN5.out; have := HN4.out; omega); have f7 := own_free (i := 0) hown7'; have HO8 := Lib.hid hown7'; clear hown7 hg7 hown7')
  obtain ⟨W8, hW8⟩ : ∃ W, W = w7.setCell ⟨g7, 0, none⟩ (.int .u8 0) := ⟨_, rfl⟩
  rw [← hW8]
  have hst := HO8.out.stored 0 (.int .u8 0)
  rw [← hW8, show (Value.int .u8 0) = .int .u8 ((0 : Nat) : Int) from rfl, cn_set] at hst
  have hb8 : Below w6.heap.size w6 W8 := HB7.out.grown hst.2 HB7.out.size (fun k hk => by injection hk with hk; subst hk; exact hg7B)
  have hs0 : (L5.set 0 0).length = n5 := by rw [List.length_set, H5.out]
  have HO9 : Hid ((W8.alloc (.cells #[.int .u8 190] 5)).ownsRow w6.heap.size 5 1 (.slice (some ⟨g7, 0, none⟩) n5 cp7) (L5.set 0 0).length (cn .u8 (L5.set 0 0))) := Lib.hid (by rw [hs0]; exact hst.1.alloc _)
  have HB8 := Lib.hid hb8
  obtain ⟨L9, hL9⟩ : ∃ l, l = L5.set 0 0 ++ [190] := ⟨_, rfl⟩
  obtain ⟨n9, hn9⟩ : ∃ n, n = n5 + 1 := ⟨_, rfl⟩
  have HL9 := Lib.hid hL9
  have HL9L : Hid (L9.length = n9) := Lib.hid (by rw [hL9, List.length_append, hs0, hn9]; rfl)
  have HN9 := Lib.hid hn9
  rw [← hL9] at HD2
  have H9256 : Hid (∀ x ∈ L9, x < 256) := Lib.hid (by
    intro x hx
    rw [hL9, List.mem_append, List.mem_singleton] at hx
    rcases hx with hx | rfl
    · exact H0256.out 0 (by omega) x hx
    · omega)
  have hn9b : n9 ≤ 124 := by omega
  clear k7 f7 HO8 hst hb8 hW8 hs0 hL9 hn9 HO7 HP7 HB7
  go_wp2_with (at_builtin; refine wpList_append_at rfl (.tmp 67) (.tmp 68) rfl w6.heap.size _ (L5.set 0 0) rfl HO9.out (some ⟨W8.heap.size, 0, none⟩) [190] _ 1 rfl rfl (fun h => by cases h) _ (At.new W8 [190] 5 (0, 0)) (by have := H5.out; simp only [List.length_set, List.length_cons, List.length_nil]; omega) (by have := HB8.out.size; simp; omega) ?_; intro v9 w9 hown9 hg9; rw [← HL9.out, HL9L.out] at hown9; obtain ⟨g9, cp9, rfl, hg9B, hown9'⟩ := own_form hown9 (by have := HN9.out; omega); have HB9 : Hid (Below w6.heap.size w6 w9) := Lib.hid ((HB8.out.alloc HB8.out.size _).grown hg9 (by have := HB8.out.size; simp; omega) (own_block HO9.out)); have HO10 := Lib.hid hown9'; clear hown9 hg9 hown9')
  have hg9l : g9 < w9.heap.size := (HO10.out.lt g9 rfl).2
  have hH9 := HH6.out.more HB9.out
  have hD := hH9.dec (HR.out _ hH9.below) (some ⟨g9, 0, none⟩) L9 n9 cp9 100000 (At.of_own HO10.out) H9256.out HL9L.out (fun h => by cases h) (own_cap HO10.out) (by omega) (fun _ a ha => by injection ha with ha; subst ha; exact .inr ⟨hg9B, hg9l⟩) (by unfold Rng; omega)
  rw [HD2.out] at hD
  simp only [List.length_cons, List.length_nil] at hD
  have HDC := Lib.hid hD
  have HP9 := Lib.hid (HP6.out.up HB9.out)
  have HA9 := Lib.hid (HA6.out.up HB9.out)
  clear hD hH9 HH6 HD2 HP6 HA6 HO9 HO10
  go_wp2_with fail
  with_reducible refine (HDC.out).mono ?_
  rintro e w10 ⟨A10, c10, rfl, hH10, ho10⟩
  obtain ⟨b10, o10, rfl, hb10l, _⟩ := ho10.at' (by simp)
  have hP10 : At .u8 w10 w10.heap.size (some ⟨g5, 0, none⟩) L5 := ho10.atB HP9.out (fun a ha => by injection ha with ha; subst ha; exact .inl (.inl rfl))
  have hA10 : AtF w10 w10.heap.size (some ⟨b6, o6, none⟩) [⟨nm, va, false⟩] := ho10.atF HA9.out (fun b o s e => by injection e with e; injection e with e _ _; subst e; exact .inl (.inr rfl))
  have hH10' : HasU w (fun x => x = b6 ∨ x = b10) p t 4096 [⟨nm, va, false⟩] false w10 := hH10.less (fun x hx => by
    rcases hx with rfl | rfl
    · exact .inl (.inl (.inr rfl))
    · exact .inr ⟨hb10l, _, _, rfl⟩)
  have HH10 := Lib.hid hH10'
  have HA10 := Lib.hid hA10
  have HC10 := Lib.hid ho10.at'
  have hc10 := ho10.cap
  have HO11 : Hid ((w10.alloc (.cells #[] 5)).ownsRow w10.heap.size 5 1 (.slice (some ⟨w10.heap.size, 0, none⟩) 0 0) ([] : List Nat).length (cn .u8 [])) := Lib.hid (own_empty w10 _ (Nat.le_refl _))
  have HP11 : Hid (At .u8 (w10.alloc (.cells #[] 5)) (w10.alloc (.cells #[] 5)).heap.size (some ⟨g5, 0, none⟩) L5) := Lib.hid (hP10.up ((Below.refl _ _).alloc (Nat.le_refl _) _))
  clear hH10 ho10 hP10 HDC hH10' HB9 HP9 HA9 hA10 HB8 hg6l hg5l hg5B hb6l hg7B hg9B hg9l
  -- the third block
  go_upto_region 13 with (at_builtin; refine wpList_append_at rfl (.tmp 73) (.tmp 74) rfl w10.heap.size _ [] rfl HO11.out (some ⟨g5, 0, none⟩) L5 _ cp5 H5.out rfl (fun h => by cases h) _ HP11.out (by have := H5.out; simp only [List.length_nil]; omega) (by simp) ?_; intro v11 w11 hown11 hg11; rw [List.nil_append, H5.out] at hown11; obtain ⟨g11, cp11, rfl, hg11B, hown11'⟩ := own_form hown11 (by have := HN5.out; have := HN4.out; omega); have HB11 : Hid (Below w10.heap.size w10 w11) := Lib.hid (((Below.refl _ _).alloc (Nat.le_refl _) _).grown hg11 (by simp) (own_block HO11.out)); have k11 := own_at hown11' (i := 0) (by have := H5.out; have := HN5.out; have := HN4.out; omega); have f11 := own_free (i := 0) hown11'; have HO12 := Lib.hid hown11'; clear hown11 hg11 hown11')
  obtain ⟨W12, hW12⟩ : ∃ W, W = w11.setCell ⟨g11, 0, none⟩ (.int .u8 16) := ⟨_, rfl⟩
  rw [← hW12]
  have hst := HO12.out.stored 0 (.int .u8 16)
  rw [← hW12, show (Value.int .u8 16) = .int .u8 ((16 : Nat) : Int) from rfl, cn_set] at hst
  have hb12 : Below w10.heap.size w10 W12 := HB11.out.grown hst.2 HB11.out.size (fun k hk => by injection hk with hk; subst hk; exact hg11B)
  have hg12l : g11 < W12.heap.size := (hst.1.lt g11 rfl).2
  have hH12 := HH10.out.more hb12
  have hD := hH12.dec (HR.out _ hH12.below) (some ⟨g11, 0, none⟩) (L5.set 0 16) n5 cp11 100000 (At.of_own hst.1) (H0256.out 16 (by omega)) (by rw [List.length_set, H5.out]) (fun h => by cases h) (own_cap hst.1) (by omega) (fun _ a ha => by injection ha with ha; subst ha; exact .inr ⟨hg11B, hg12l⟩) (by unfold Rng; omega)
  rw [HD3.out] at hD
  simp only [List.length_cons, List.length_nil] at hD
  have HDC := Lib.hid hD
  have HA12 := Lib.hid (HA10.out.up hb12)
  have HC12 := Lib.hid (HC10.out.up hb12)
  clear hD hH12 HH10 HD3 HA10 HC10 hst hb12 hW12 HB11 k11 f11 HO12 HO11 HP11 hg11B hg12l
  go_wp2_with fail
  with_reducible refine (HDC.out).mono ?_
  rintro e w13 ⟨A13, c13, rfl, hH13, ho13⟩
  obtain ⟨b13, o13, rfl, hb13l, _⟩ := ho13.at' (by simp)
  have hA13 : AtF w13 w13.heap.size (some ⟨b6, o6, none⟩) [⟨nm, va, false⟩] := ho13.atF HA12.out (fun b o s e => by injection e with e; injection e with e _ _; subst e; exact .inl (.inl rfl))
  have hC13 : AtF w13 w13.heap.size (some ⟨b10, o10, none⟩) [⟨nm, va, false⟩, ⟨nm, va, false⟩] := ho13.atF HC12.out (fun b o s e => by injection e with e; injection e with e _ _; subst e; exact .inl (.inr rfl))
  have HH13 : Hid (HasU w (fun _ => False) p t 4096 [⟨nm, va, false⟩] false w13) := Lib.hid (hH13.less (fun x hx => hx.elim))
  have HA13 := Lib.hid hA13
  have HC13 := Lib.hid hC13
  have HE13 := Lib.hid ho13.at'
  have hc13 := ho13.cap
  clear hH13 ho13 HDC HA12 HC12 hA13 hC13 hb13l hb10l
  go_upto_region 15 with fail
  obtain ⟨g14, hg14⟩ : ∃ g, g = w13.heap.size := ⟨_, rfl⟩
  obtain ⟨w14, hw14⟩ : ∃ W, W = w13.alloc (.cells #[.string nm, .string va, .bool false] 44) := ⟨_, rfl⟩
  rw [← hg14, ← hw14]
  have hb14 : Below w13.heap.size w13 w14 := by rw [hw14]; exact (Below.refl _ _).alloc (Nat.le_refl _) _
  have hh14 : w14.heap[g14]? = some (.cells #[.string nm, .string va, .bool false] 44 (0, 0)) := by rw [hw14, hg14]; exact heap_alloc_new w13 _
  have hgl14 := lt_of_heap hh14
  have HX0 := Lib.hid fun (W : World) (hb : Below w14.heap.size w14 W) => (hb.cell (p := ⟨g14, 0, none⟩) hgl14).trans (cell_of_row _ g14 0 _ 44 _ hh14)
  have HX1 := Lib.hid fun (W : World) (hb : Below w14.heap.size w14 W) => (hb.cell (p := ⟨g14, 1, none⟩) hgl14).trans (cell_of_row _ g14 1 _ 44 _ hh14)
  have HX2 := Lib.hid fun (W : World) (hb : Below w14.heap.size w14 W) => (hb.cell (p := ⟨g14, 2, none⟩) hgl14).trans (cell_of_row _ g14 2 _ 44 _ hh14)
  have HH14 := Lib.hid (HH13.out.quiet hb14)
  have HA14 := Lib.hid (HA13.out.up hb14)
  have HC14 := Lib.hid (HC13.out.up hb14)
  have HE14 := Lib.hid (HE13.out.up hb14)
  have x0 : w14.cell? ⟨g14, 0, none⟩ = some (.string nm) := HX0.out w14 (Below.refl _ _)
  have x1 : w14.cell? ⟨g14, 1, none⟩ = some (.string va) := HX1.out w14 (Below.refl _ _)
  have x2 : w14.cell? ⟨g14, 2, none⟩ = some (.bool false) := HX2.out w14 (Below.refl _ _)
  have HT1 : Hid (∀ b, tot [(⟨nm, va, b⟩ : Fld)] ≤ 200) := Lib.hid (fun b => by have := HSN.out; have := HSV.out; simp only [tot, fsize]; omega)
  have HT2 : Hid (tot [(⟨nm, va, false⟩ : Fld), ⟨nm, va, false⟩] ≤ 400) := Lib.hid (by have := HSN.out; have := HSV.out; simp only [tot, fsize]; omega)
  simp only [List.length_cons, List.length_nil] at hc6 hc10 hc13
  -- a and [x]
  have hba : Below w14.heap.size w14 (w14.alloc (.cells #[.string nm, .string va, .bool false] 44)) := (Below.refl _ _).alloc (Nat.le_refl _) _
  have hS1 := ssame_f (some ⟨b6, o6, none⟩) (some ⟨w14.heap.size, 0, none⟩) [⟨nm, va, false⟩] [⟨nm, va, false⟩] 1 1 c6 1 (w14.alloc (.cells #[.string nm, .string va, .bool false] 44)) (HR.out _ (HH14.out.quiet hba).below) (HA14.out.up hba) (atF_lit w14 [⟨nm, va, false⟩]) rfl rfl (fun h => by cases h) (fun h => by cases h) hc6 (Nat.le_refl _) (by have := HT1.out false; omega) (by have := HT1.out false; omega) (by omega) (by omega)
  rw [same_self] at hS1
  have HS1 := Lib.hid hS1
  have HBA := Lib.hid hba
  clear hg14 hw14 hb14 hh14 hgl14 HH13 HA13 HC13 HE13 hS1 hba
  go_wp2_with fail
  with_reducible refine (HS1.out).mono ?_
  rintro e w15 ⟨rfl, hb15'⟩
  have hb15 : Below w14.heap.size w14 w15 := HBA.out.trans (hb15'.mono HBA.out.size)
  have HB15 := Lib.hid hb15
  -- b and [x, x]
  have y0 := HX0.out w15 hb15
  have y1 := HX1.out w15 hb15
  have y2 := HX2.out w15 hb15
  have hba : Below w15.heap.size w15 (w15.alloc (.cells #[.string nm, .string va, .bool false, .string nm, .string va, .bool false] 44)) := (Below.refl _ _).alloc (Nat.le_refl _) _
  have hbb := hb15.trans (hba.mono hb15.size)
  have hS2 := ssame_f (some ⟨b10, o10, none⟩) (some ⟨w15.heap.size, 0, none⟩) [⟨nm, va, false⟩, ⟨nm, va, false⟩] [⟨nm, va, false⟩, ⟨nm, va, false⟩] 2 2 c10 2 (w15.alloc (.cells #[.string nm, .string va, .bool false, .string nm, .string va, .bool false] 44)) (HR.out _ (HH14.out.quiet hbb).below) (HC14.out.up hbb) (atF_lit w15 [⟨nm, va, false⟩, ⟨nm, va, false⟩]) rfl rfl (fun h => by cases h) (fun h => by cases h) hc10 (Nat.le_refl _) (by have := HT2.out; omega) (by have := HT2.out; omega) (by omega) (by omega)
  rw [same_two] at hS2
  have HS2 := Lib.hid hS2
  have HBB := Lib.hid hbb
  clear x0 x1 x2 HS1 hS2 hba hbb hb15 hb15' HBA
  go_wp2_with fail
  with_reducible refine (HS2.out).mono ?_
  rintro e w16 ⟨rfl, hb16'⟩
  have hb16 : Below w14.heap.size w14 w16 := HBB.out.trans (hb16'.mono HBB.out.size)
  -- c and [x]
  have z0 := HX0.out w16 hb16
  have z1 := HX1.out w16 hb16
  have z2 := HX2.out w16 hb16
  have hba : Below w16.heap.size w16 (w16.alloc (.cells #[.string nm, .string va, .bool false] 44)) := (Below.refl _ _).alloc (Nat.le_refl _) _
  have hbb := hb16.trans (hba.mono hb16.size)
  have hS3 := ssame_f (some ⟨b13, o13, none⟩) (some ⟨w16.heap.size, 0, none⟩) [⟨nm, va, true⟩] [⟨nm, va, false⟩] 1 1 c13 1 (w16.alloc (.cells #[.string nm, .string va, .bool false] 44)) (HR.out _ (HH14.out.quiet hbb).below) (HE14.out.up hbb) (atF_lit w16 [⟨nm, va, false⟩]) rfl rfl (fun h => by cases h) (fun h => by cases h) hc13 (Nat.le_refl _) (by have := HT1.out true; omega) (by have := HT1.out false; omega) (by omega) (by omega)
  rw [same_self] at hS3
  have HS3 := Lib.hid hS3
  have HBC := Lib.hid hbb
  clear y0 y1 y2 HS2 hS3 hba hbb hb16 hb16' HBB
  go_wp2_with fail
  with_reducible refine (HS3.out).mono ?_
  rintro e w17 ⟨rfl, hb17'⟩
  have hb17 : Below w14.heap.size w14 w17 := HBC.out.trans (hb17'.mono HBC.out.size)
  have hH17 := HH14.out.quiet hb17
  obtain ⟨bA, oA, eA, _, hcA⟩ := (HA14.out.up hb17).pos (by simp)
  injection eA with eA
  injection eA with eA1 eA2 _
  subst eA1 eA2
  obtain ⟨bE, oE, eE, _, hcE⟩ := (HE14.out.up hb17).pos (by simp)
  injection eE with eE
  injection eE with eE1 eE2 _
  subst eE1 eE2
  have q1 := (hcA 0 (by simp)).2.2
  have q2 := (hcE 0 (by simp)).2.2
  simp only [List.getElem_cons_zero, Nat.zero_mul, Nat.add_zero] at q1 q2
  have HTB := Lib.hid (hH17.table (HR.out _ hH17.below))
  clear z0 z1 z2 HS3 hb17 hb17' HBC hcA hcE hH17 HX0 HX1 HX2
  go_wp2_with fail
  with_reducible refine (HTB.out).mono ?_
  rintro e w18 ⟨rfl, hH18, _⟩
  have HTB := Lib.hid (hH18.table (HR.out _ hH18.below))
  clear q1 q2 hH18
  go_wp2_with fail
  with_reducible refine (HTB.out).mono ?_
  rintro e w19 ⟨rfl, hH19, _⟩
  have HLN := Lib.hid (hH19.len (HR.out _ hH19.below))
  go_wp2_with fail
  with_reducible refine (HLN.out).mono ?_
  rintro e w20 ⟨rfl, hb20⟩
  have hH20 := hH19.quiet hb20
  simp only [List.length_cons, List.length_nil]
  -- the limit
  have hba : Below w20.heap.size w20 (w20.alloc (.cells #[.int .u8 32] 5)) := (Below.refl _ _).alloc (Nat.le_refl _) _
  have hH21 := hH20.more hba
  have hD := hH21.dec (HR.out _ hH21.below) (some ⟨w20.heap.size, 0, none⟩) [32] 1 1 100000 (At.new w20 [32] 5 (0, 0)) (fun x hx => by simp at hx; omega) rfl (fun h => by cases h) (Nat.le_refl _) (by omega) (fun _ a ha => by injection ha with ha; subst ha; exact .inr ⟨Nat.le_refl _, by simp⟩) (by unfold Rng; omega)
  rw [dec_limit] at hD
  simp only [List.length_nil] at hD
  have HDC := Lib.hid hD
  clear hD hH21 hba hH20 hb20 hH19 HLN HTB HH14 HA14 HC14 HE14
  go_wp2_with fail
  with_reducible refine (HDC.out).mono ?_
  rintro e w22 ⟨A22, c22, rfl, hH22, _⟩
  have HTB := Lib.hid (hH22.table (HR.out _ hH22.below))
  clear hH22 HDC
  go_wp2_with fail
  with_reducible refine (HTB.out).mono ?_
  rintro e w23 ⟨rfl, hH23, _⟩
  have HLN := Lib.hid (hH23.len (HR.out _ hH23.below))
  clear HTB
  go_wp2_with fail
  with_reducible refine (HLN.out).mono ?_
  rintro e w24 ⟨rfl, hb24⟩
  have hH24 := hH23.quiet hb24
  have HTB := Lib.hid (hH24.table (HR.out _ hH24.below))
  simp only [List.length_nil]
  clear hH23 hb24 HLN hH24
  go_wp2_with fail
  with_reducible refine (HTB.out).mono ?_
  rintro e w25 ⟨rfl, hH25, _⟩
  have HMS := Lib.hid (hH25.most (HR.out _ hH25.below))
  clear HTB
  go_wp2_with fail
  with_reducible refine (HMS.out).mono ?_
  rintro e w26 ⟨rfl, hb26⟩
  have hH26 := hH25.quiet hb26
  -- nothing is there
  have hba : Below w26.heap.size w26 (w26.alloc (.cells #[.int .u8 190] 5)) := (Below.refl _ _).alloc (Nat.le_refl _) _
  have hH27 := hH26.more hba
  have hD := hH27.dec (HR.out _ hH27.below) (some ⟨w26.heap.size, 0, none⟩) [190] 1 1 100000 (At.new w26 [190] 5 (0, 0)) (fun x hx => by simp at hx; omega) rfl (fun h => by cases h) (Nat.le_refl _) (by omega) (fun _ a ha => by injection ha with ha; subst ha; exact .inr ⟨Nat.le_refl _, by simp⟩) (by unfold Rng; omega)
  rw [dec_gone] at hD
  simp only [List.length_nil] at hD
  have HDC := Lib.hid hD
  clear hD hH27 hba hH26 hb26 hH25 HMS
  go_wp2_with fail
  with_reducible refine (HDC.out).mono ?_
  rintro e w28 ⟨A28, c28, rfl, hH28, _⟩
  have HF2 := Lib.hid (first_any w28 (HR.out _ hH28.below))
  clear HDC
  go_wp2_with fail
  with_reducible refine (HF2.out).mono ?_
  rintro e w29 ⟨rfl, hb29⟩
  have hH29 := hH28.quiet hb29
  have HDE := Lib.hid (hH29.isDead (HR.out _ hH29.below))
  clear HF2 hb29 hH28 hH29
  go_wp2_with fail
  with_reducible refine (HDE.out).mono ?_
  rintro e w30 ⟨rfl, hH30, _⟩
  have hZ := hH30.below
  clear hH30 HDE
  go_wp2
  go_ret
  exact ⟨rfl, hZ⟩
theorem walk (nm va : ByteArray) (w : World) (hR : Rdy w) (h1 : nm.size ≤ maxLen) (h2 : va.size ≤ maxLen) : Calls Tryd.prog 6 #[.string nm, .string va] w (Yes w) := by
  by_cases h : nm.size ≤ 100 ∧ va.size ≤ 20
  · exact walk_in nm va w hR h.1 h.2
  · exact walk_not nm va w hR h1 h2 (by omega)
end unpackAdds
end Go.Proofs.YtlnppbnbjeakhaaDoor
