/- []byte(s): new memory with the string's bytes. From stage 9 on. -/
import Derived.Test.YtiandidencnlcaaDoorQMath
import Derived.Lib.ConvBytes
import Derived.Test.YtiandidencnlcaaDoorRows
import Derived.Below
import Derived.Test.YtiandidencnlcaaDoorPGetD
import Derived.Test.YtiandidencnlcaaDoorHAux
import Derived.Test.YtiandidencnlcaaDoorHEncode
import Derived.Test.YtiandidencnlcaaDoorLPost
import Derived.Laws.AppendOwnNone
import Derived.Laws.OwnMore
import Derived.OwnWalk
import Derived.ArgAppend
namespace Go.Proofs.YtiandidencnlcaaDoor
open Go.RowKit

theorem run_conv (w : World) (s : ByteArray) : (convert 9 34 (.string s)).run Tryd.prog w = .ok (.slice (some ⟨w.heap.size, 0, none⟩) s.size (grownCap w s.size 0 5)) (Lib.bytesWorld w 5 s) :=
  Lib.run_convert_string_bytes w 9 34 5 s Tryd.underlying9 Tryd.underlying34 Tryd.underlying5
theorem conv_at (w : World) (s : ByteArray) : At .u8 (Lib.bytesWorld w 5 s) (Lib.bytesWorld w 5 s).heap.size (some ⟨w.heap.size, 0, none⟩) (nums s) := fun _ => by
  refine ⟨w.heap.size, 0, rfl, by rw [Lib.bytesWorld_size]; omega, fun i hi => ?_⟩
  have hs : i < s.size := by rw [nums_len] at hi; exact hi
  rw [Nat.zero_add, Lib.bytesWorld_cell w 5 s i hs]
  have hd : i < s.data.toList.length := by rw [Array.length_toList]; exact hs
  simp only [nums, List.getElem_map, List.getD, List.getElem?_eq_getElem hd, Option.getD_some]
theorem conv_below (w : World) (s : ByteArray) : Below w.heap.size w (Lib.bytesWorld w 5 s) :=
  ⟨rfl, rfl, rfl, by rw [Lib.bytesWorld_size]; omega, fun k hk => Lib.bytesWorld_at_old w 5 s k hk⟩
theorem conv_cap (w : World) (s : ByteArray) : s.size ≤ grownCap w s.size 0 5 := grownCap_ge w _ _ _
end Go.Proofs.YtiandidencnlcaaDoor
/- Objects in memory: only an object's own blocks turn. From stage 7 on. -/
namespace Go.Proofs.YtiandidencnlcaaDoor
open Go.RowKit

/-- Only blocks of S, and new ones, have turned. -/
structure Keeps (S : Nat → Prop) (w w' : World) : Prop where
  os : w'.os = w.os
  tape : w'.tape = w.tape
  output : w'.output = w.output
  size : w.heap.size ≤ w'.heap.size
  block : ∀ k, k < w.heap.size → ¬ S k → w'.heap[k]? = w.heap[k]?
section
variable {S S' : Nat → Prop} {a b c w w' : World} {B : Nat}
theorem Keeps.refl (S : Nat → Prop) (w : World) : Keeps S w w := ⟨rfl, rfl, rfl, Nat.le_refl _, fun _ _ _ => rfl⟩
theorem Keeps.of_below (h : Below w.heap.size w w') : Keeps S w w' := ⟨h.os, h.tape, h.output, h.size, fun k hk _ => h.block k hk⟩
theorem Keeps.trans (h : Keeps S a b) (k : Keeps S' b c) (hS : ∀ x, S' x → x < a.heap.size → S x) : Keeps S a c :=
  ⟨k.os.trans h.os, k.tape.trans h.tape, k.output.trans h.output, Nat.le_trans h.size k.size, fun i hi hn => (k.block i (Nat.lt_of_lt_of_le hi h.size) (fun hs => hn (hS i hs hi))).trans (h.block i hi hn)⟩
theorem Keeps.mono (h : Keeps S w w') (hS : ∀ x, x < w.heap.size → S x → S' x) : Keeps S' w w' := ⟨h.os, h.tape, h.output, h.size, fun k hk hn => h.block k hk (fun hs => hn (hS k hk hs))⟩
theorem Keeps.below (h : Keeps S w w') (hB : ∀ k, S k → B ≤ k) (hs : B ≤ w.heap.size) : Below B w w' := ⟨h.os, h.tape, h.output, h.size, fun k hk => h.block k (by omega) (fun hS => by have := hB k hS; omega)⟩
theorem Keeps.cell (h : Keeps S w w') {p : Addr} (hp : p.block < w.heap.size) (hn : ¬ S p.block) : w'.cell? p = w.cell? p := World.cell?_of_block (w := w) (h.block p.block hp hn)
theorem Keeps.frozen (h : Keeps S w w') {p : Addr} (hp : p.block < w.heap.size) (hn : ¬ S p.block) : w'.frozen? p = w.frozen? p := World.frozen?_of_block (w := w) (h.block p.block hp hn)
theorem Keeps.drew (h : Keeps S a w) : Keeps S a w.drew := ⟨h.os, h.tape, h.output, h.size, h.block⟩
theorem Keeps.alloc (h : Keeps S a w) (o : Obj) : Keeps S a (w.alloc o) := h.trans (S' := S) (Keeps.of_below ((Below.refl _ _).alloc (Nat.le_refl _) o)) (fun _ h _ => h)
theorem Keeps.setCell (h : Keeps S a w) {p : Addr} (hp : S p.block) (u : Value) : Keeps S a (w.setCell p u) :=
  h.trans (S' := S) ⟨rfl, rfl, rfl, by simp [World.setCell], fun k _ hn => Below.heap_setCell w p u k (fun e => hn (e ▸ hp))⟩ (fun _ h _ => h)
end
end Go.Proofs.YtiandidencnlcaaDoor
/- What the code's tables want of an object's own blocks. -/
namespace Go.Proofs.YtiandidencnlcaaDoor
open Go.RowKit

/-- No block of the code's own tables is among them. -/
def Free (S : Nat → Prop) : Prop := ¬ S 0
theorem Rdy.keep {w w' : World} {S : Nat → Prop} (h : Rdy w) (hk : Keeps S w w') (hS : Free S) : Rdy w' := fun i hi => (hk.cell (p := ⟨0, i, none⟩) h.pos hS).trans (h i hi)
theorem Free.new {w : World} {S : Nat → Prop} (h : Rdy w) (hS : ∀ x, S x → w.heap.size ≤ x) : Free S := fun h0 => by
  have := hS 0 h0
  have := h.pos
  omega
theorem Free.more {w : World} {S S' : Nat → Prop} (hF : Free S) (h : Rdy w) (hS : ∀ x, S' x → S x ∨ w.heap.size ≤ x) : Free S' := fun h0 => by
  rcases hS 0 h0 with h1 | h1
  · exact hF h1
  · have := h.pos
    omega
theorem Free.sub {S S' : Nat → Prop} (hF : Free S) (hS : ∀ x, S' x → S x) : Free S' := fun h0 => hF (hS 0 h0)
end Go.Proofs.YtiandidencnlcaaDoor
/- The landed encoder's strings. -/
namespace Go.Proofs.YtiandidencnlcaaDoor
open Go.RowKit

set_option maxRecDepth 100000 in
set_option maxHeartbeats 4000000 in
theorem qtext_f (s : ByteArray) (w : World) (hR : Rdy w) (hs : s.size ≤ 16384) : Calls Tryd.prog 68 #[.string s] w (RowPost w.heap.size w (pstr (nums s))) := by
  have hc := run_conv w s
  have hb1 := conv_below w s
  have hat := conv_at w s
  have hcp := conv_cap w s
  obtain ⟨w1, hw1⟩ : ∃ w1, w1 = Lib.bytesWorld w 5 s := ⟨_, rfl⟩
  obtain ⟨c1, hc1⟩ : ∃ c, c = grownCap w s.size 0 5 := ⟨_, rfl⟩
  obtain ⟨n, hn⟩ : ∃ n, n = s.size := ⟨_, rfl⟩
  obtain ⟨g, hg⟩ : ∃ g, g = w.heap.size := ⟨_, rfl⟩
  have HSN : Hid (s.size = n) := Lib.hid hn.symm
  have sn : s.size = n := hn.symm
  rw [← hw1] at hc hb1 hat
  rw [← hc1, ← hn, ← hg] at hc
  rw [← hg] at hat
  rw [← hn] at hs
  rw [← hc1, ← hn] at hcp
  have HL : Hid ((nums s).length = n) := Lib.hid (by rw [nums_len, hn])
  have HPS : Hid (pstr (nums s) = if (Hf.nBits (nums s) + 7) / 8 < n then Pn.put 128 7 ((Hf.nBits (nums s) + 7) / 8) ++ Hf.enc (nums s) else Pn.put 0 7 n ++ nums s) := Lib.hid (by rw [pstr, HL.out])
  have HEN := enc_f (some ⟨g, 0, none⟩) (nums s) n c1 w1 (hR.below hb1) hat (nums_lt s) HL.out (fun h => by cases h) (by omega) (by omega)
  have hel := Hf.enc_len (nums s)
  have hnb := nBits_le (nums s)
  rw [HL.out] at hnb
  obtain ⟨m, hm⟩ : ∃ m, m = (Hf.nBits (nums s) + 7) / 8 := ⟨_, rfl⟩
  rw [← hm] at HPS hel
  have hm9 : m ≤ 61441 := by omega
  obtain ⟨E, hE⟩ : ∃ E, E = Hf.enc (nums s) := ⟨_, rfl⟩
  rw [← hE] at HPS HEN hel
  have HEL := Lib.hid hel
  have HE := Lib.hid HEN
  have HB1 := Lib.hid hb1
  clear hw1 hc1 hn hg hat hm hE hel HEN hnb hb1 hR
  by_cases hlt : m < n
  · have lt' : (m : Int) < (n : Int) := by omega
    have hp := fun (W : World) => qnum_f 128 7 m W (by omega) (by omega) (by omega) (by omega)
    rw [show ((128 : Nat) : Int) = 128 from rfl, show ((7 : Nat) : Int) = 7 from rfl] at hp
    obtain ⟨P, hP⟩ : ∃ P, P = Pn.put 128 7 m := ⟨_, rfl⟩
    have HP2 : Hid (pstr (nums s) = P ++ E) := Lib.hid (by rw [HPS.out, if_pos hlt, hP])
    have hPl : P.length ≤ 6 := by rw [hP]; exact Pn.put_six 128 7 m (by omega)
    have hPp : 1 ≤ P.length := by rw [hP]; exact Pn.put_pos 128 7 m
    rw [← hP] at hp
    have HPT := Lib.hid hp
    clear HPS hP hp sn
    go_enter Tryd.func68, Tryd.ntmps68
    go_wp2_with fail
    with_reducible refine (HE.out).mono ?_
    rintro e w2 ⟨v2, rfl, hr2⟩
    obtain ⟨ho2, hb2⟩ := hr2
    rw [HEL.out] at ho2
    obtain ⟨A2, c2, rfl⟩ := own_shape ho2
    have HAT2 := Lib.hid (At.of_own ho2)
    have HN2 := Lib.hid (own_none ho2)
    have HB2 := Lib.hid (HB1.out.trans (hb2.mono HB1.out.size))
    have sn := HSN.out
    clear ho2 hb2 HE hc
    go_wp2_with fail
    with_reducible refine (HPT.out w2).mono ?_
    rintro e w3 ⟨v3, rfl, hr3⟩
    obtain ⟨g3, c3, rfl, hg3, _⟩ := own_form hr3.1 (by omega)
    have HR3 := Lib.hid hr3
    have HAT3 := Lib.hid (HAT2.out.up hr3.2)
    clear hr3 HPT
    go_wp2_with (at_builtin; refine wpList_append_at rfl (.tmp 14) (.tmp 15) rfl w2.heap.size _ P rfl HR3.out.1 A2 E _ c2 HEL.out rfl HN2.out _ HAT3.out (by have := HEL.out; omega) (HR3.out.2.size) ?_; intro v5 w5 hown5 hg5; have HO5 := Lib.hid hown5; have HB5 : Hid (Below w2.heap.size w2 w5) := Lib.hid (HR3.out.2.grown hg5 HR3.out.2.size (own_block HR3.out.1)); obtain ⟨A5, c5, rfl⟩ := own_shape hown5; clear hown5 hg5)
    go_ret
    rw [HP2.out]
    refine ⟨_, rfl, ?_, HB2.out.trans (HB5.out.mono HB2.out.size)⟩
    have h9 := own_more HO5.out HB2.out.size
    rw [List.length_append] at h9 ⊢
    exact h9
  · have lt' : ¬ (m : Int) < (n : Int) := by omega
    have hp := fun (W : World) => qnum_f 0 7 n W (by omega) (by omega) (by omega) (by omega)
    rw [show ((0 : Nat) : Int) = 0 from rfl, show ((7 : Nat) : Int) = 7 from rfl] at hp
    obtain ⟨P, hP⟩ : ∃ P, P = Pn.put 0 7 n := ⟨_, rfl⟩
    have HP2 : Hid (pstr (nums s) = P ++ nums s) := Lib.hid (by rw [HPS.out, if_neg hlt, hP])
    have hPl : P.length ≤ 6 := by rw [hP]; exact Pn.put_six 0 7 n (by omega)
    have hPp : 1 ≤ P.length := by rw [hP]; exact Pn.put_pos 0 7 n
    rw [← hP] at hp
    have HPT := Lib.hid hp
    clear HPS hP hp sn
    go_enter Tryd.func68, Tryd.ntmps68
    go_wp2_with fail
    with_reducible refine (HE.out).mono ?_
    rintro e w2 ⟨v2, rfl, hr2⟩
    obtain ⟨ho2, hb2⟩ := hr2
    rw [HEL.out] at ho2
    obtain ⟨A2, c2, rfl⟩ := own_shape ho2
    have HB2 := Lib.hid (HB1.out.trans (hb2.mono HB1.out.size))
    have sn := HSN.out
    clear ho2 hb2 HE hc
    go_wp2_with fail
    with_reducible refine (HPT.out w2).mono ?_
    rintro e w3 ⟨v3, rfl, hr3⟩
    obtain ⟨g3, c3, rfl, hg3, _⟩ := own_form hr3.1 (by omega)
    have HR3 := Lib.hid hr3
    clear hr3 HPT
    go_wp2_with (at_builtin; refine wpList_append_s rfl (.tmp 19) (.tmp 20) rfl w2.heap.size _ _ P rfl HR3.out.1 s rfl (by rw [HSN.out]; omega) (HR3.out.2.size) ?_; intro v5 w5 hown5 hg5; have HO5 := Lib.hid hown5; have HB5 : Hid (Below w2.heap.size w2 w5) := Lib.hid (HR3.out.2.grown hg5 HR3.out.2.size (own_block HR3.out.1)); obtain ⟨A5, c5, rfl⟩ := own_shape hown5; clear hown5 hg5)
    go_ret
    rw [HP2.out]
    refine ⟨_, rfl, ?_, HB2.out.trans (HB5.out.mono HB2.out.size)⟩
    have h9 := own_more HO5.out HB2.out.size
    rw [List.length_append, nums_len]
    rw [HSN.out] at h9 ⊢
    exact h9
end Go.Proofs.YtiandidencnlcaaDoor
/- Rows of fields of the call's own; appends onto them; slice expressions over them. From stage 6 on. -/
namespace Go.Proofs.YtiandidencnlcaaDoor
open Go.RowKit

/-- The cells of fields. -/
def cF : List Fld → List Value
  | [] => []
  | f :: r => .string f.name :: .string f.value :: .bool f.never :: cF r
theorem cF_len : ∀ l, (cF l).length = l.length * 3
  | [] => rfl
  | f :: r => by rw [cF, List.length_cons, List.length_cons, List.length_cons, cF_len r, List.length_cons]; omega
theorem cF_app : ∀ a b, cF (a ++ b) = cF a ++ cF b
  | [], b => rfl
  | f :: r, b => by rw [List.cons_append, cF, cF, cF_app r b]; rfl
theorem cF_at : ∀ (l : List Fld) (i : Nat) (h : i < l.length), (cF l)[i * 3]? = some (.string l[i].name) ∧ (cF l)[i * 3 + 1]? = some (.string l[i].value) ∧ (cF l)[i * 3 + 2]? = some (.bool l[i].never)
  | [], i, h => by simp at h
  | f :: r, 0, h => ⟨rfl, rfl, rfl⟩
  | f :: r, i + 1, h => by
    have ih := cF_at r i (by simpa using h)
    rw [cF, show (i + 1) * 3 = i * 3 + 3 by omega]
    exact ih
theorem cF_one : ∀ (l : List Fld), ∀ u ∈ cF l, u.oneCell' = true
  | [], u, h => by simp [cF] at h
  | f :: r, u, h => by
    rw [cF, List.mem_cons, List.mem_cons, List.mem_cons] at h
    rcases h with rfl | rfl | rfl | h
    · rfl
    · rfl
    · rfl
    · exact cF_one r u h
theorem cF_set : ∀ (l : List Fld) (i : Nat) (h : i < l.length) (b : Bool), (cF l).set (i * 3 + 2) (.bool b) = cF (l.set i ⟨l[i].name, l[i].value, b⟩)
  | [], i, h, _ => by simp at h
  | f :: r, 0, h, b => rfl
  | f :: r, i + 1, h, b => by
    have ih := cF_set r i (by simpa using h) b
    rw [cF, show (i + 1) * 3 + 2 = i * 3 + 2 + 1 + 1 + 1 by omega]
    simp only [List.set_cons_succ, List.getElem_cons_succ]
    rw [ih, cF]
theorem plain_add (b o j : Nat) : (⟨b, o, none⟩ : Addr).add j = ⟨b, o + j, none⟩ := by unfold Addr.add; split <;> simp_all
theorem AtF.cells {w : World} {B : Nat} {ad : Addr} {l : List Fld} (h : AtF w B (some ad) l) : ∀ j u, (cF l)[j]? = some u → w.cell? (ad.add j) = some u := by
  intro j u hj
  have hjl : j < l.length * 3 := by
    rcases Nat.lt_or_ge j (l.length * 3) with h | h
    · exact h
    · rw [List.getElem?_eq_none (by rw [cF_len]; exact h)] at hj; cases hj
  obtain ⟨b, o, e, hB, hc⟩ := h.pos (by omega)
  injection e with e
  subst e
  rw [plain_add]
  obtain ⟨c0, c1, c2⟩ := hc (j / 3) (by omega)
  obtain ⟨d0, d1, d2⟩ := cF_at l (j / 3) (by omega)
  rcases (show j % 3 = 0 ∨ j % 3 = 1 ∨ j % 3 = 2 by omega) with r | r | r
  · rw [show j = j / 3 * 3 by omega] at hj
    rw [show o + j = o + j / 3 * 3 by omega, c0, ← d0, hj]
  · rw [show j = j / 3 * 3 + 1 by omega] at hj
    rw [show o + j = o + j / 3 * 3 + 1 by omega, c1, ← d1, hj]
  · rw [show j = j / 3 * 3 + 2 by omega] at hj
    rw [show o + j = o + j / 3 * 3 + 2 by omega, c2, ← d2, hj]
theorem AtF.of_own {w : World} {B n c : Nat} {A : Option Addr} {l : List Fld} (h : w.ownsRow B 52 3 (.slice A n c) n (cF l)) : AtF w w.heap.size A l := fun hl => by
  have hlen : l.length = n := by have := h.1; rw [cF_len] at this; omega
  have hpos : 0 < l.length := List.length_pos_iff.2 hl
  rcases h.2 with ⟨he, hn⟩ | ⟨g, cap, cur, he, hB, hh, _⟩
  · omega
  · injection he with hA _ hc
    subst hA
    subst hc
    refine ⟨g, 0, rfl, ?_, fun i hi => ?_⟩
    · rcases Nat.lt_or_ge g w.heap.size with hlt | hge
      · exact hlt
      · rw [Array.getElem?_eq_none hge] at hh; cases hh
    · obtain ⟨d0, d1, d2⟩ := cF_at l i hi
      rw [Nat.zero_add, h.cellAt (i * 3) (by omega), h.cellAt (i * 3 + 1) (by omega), h.cellAt (i * 3 + 2) (by omega)]
      exact ⟨d0, d1, d2⟩
theorem rowF_shape {w : World} {B T S : Nat} {v : Value} {n : Nat} {xs : List Value} (h : w.ownsRow B T S v n xs) : ∃ A c, v = .slice A n c ∧ n ≤ c ∧ (A = none → c = 0) := by
  rcases h.2 with ⟨rfl, hn⟩ | ⟨g, cap, _, rfl, _, _, hc, _⟩
  · exact ⟨none, 0, by rw [hn], by omega, fun _ => rfl⟩
  · exact ⟨_, cap, rfl, hc, fun e => by cases e⟩
theorem rowF_block {w : World} {B T S : Nat} {v : Value} {n : Nat} {xs : List Value} (h : w.ownsRow B T S v n xs) : ∀ k, v.ownBlock = some k → B ≤ k := by
  intro k hk
  rcases h.2 with ⟨rfl, hn⟩ | ⟨g, cap, _, rfl, hB, _⟩
  · cases hk
  · injection hk with hk
    subst hk
    exact hB
theorem rowF_keep {wr w' : World} {B T S : Nat} {v : Value} {n : Nat} {xs : List Value} (h : wr.ownsRow B T S v n xs) (hb : Below wr.heap.size wr w') : w'.ownsRow B T S v n xs := by
  refine ⟨h.1, ?_⟩
  rcases h.2 with h0 | ⟨g, cap, cur, hv, hB, hh, r⟩
  · exact .inl h0
  · refine .inr ⟨g, cap, cur, hv, hB, ?_, r⟩
    rw [hb.block g ?_, hh]
    rcases Nat.lt_or_ge g wr.heap.size with hlt | hge
    · exact hlt
    · rw [Array.getElem?_eq_none hge] at hh; cases hh
theorem rowF_form {w : World} {B T S N : Nat} {v : Value} {xs : List Value} (h : w.ownsRow B T S v N xs) (hl : 0 < N) : ∃ g c, v = .slice (some ⟨g, 0, none⟩) N c ∧ B ≤ g ∧ N ≤ c ∧ g < w.heap.size := by
  rcases h.2 with ⟨_, hn⟩ | ⟨g, cap, _, hv, hB, hh, hc, _⟩
  · omega
  · refine ⟨g, cap, hv, hB, hc, ?_⟩
    rcases Nat.lt_or_ge g w.heap.size with hlt | hge
    · exact hlt
    · rw [Array.getElem?_eq_none hge] at hh; cases hh
theorem infoFd : (Tryd.prog.info? 52).map (fun i => (i.zero, i.size, i.bytes)) = some (some (.agg #[.string ⟨#[]⟩, .string ⟨#[]⟩, .bool false]), 3, 40) := by kernel_rfl
theorem rowF_empty (w : World) (B : Nat) (hB : B ≤ w.heap.size) : (w.alloc (.cells #[] 52)).ownsRow B 52 3 (.slice (some ⟨w.heap.size, 0, none⟩) 0 0) 0 (cF []) :=
  ⟨rfl, .inr ⟨w.heap.size, 0, #[], rfl, hB, heap_alloc_new w _, Nat.le_refl _, Nat.zero_le _, rfl, rfl⟩⟩
/-- A list of fields appended onto a row of the call's own. -/
theorem wpList_append_F {w : World} {ops : Array Oper} {rest : List Oper} {o : Oper} {a : Act} {Q : Exit → Act → World → Prop} (hgd : o.guard = none) (s x : Operand)
    (ho : o.op = .call { callee := .builtin .append, args := #[s, x], argTypes := #[30, 30] }) (base : Nat)
    (v : Value) (l : List Fld) (hs : a.eval s = v) (hown : w.ownsRow base 52 3 v l.length (cF l))
    (A : Option Addr) (m : List Fld) (n c : Nat) (hn : m.length = n) (hx : a.eval x = .slice A n c) (hA : A = none → c = 0) (B : Nat) (hm : AtF w B A m)
    (hlen : l.length + m.length ≤ 1000000) (hbase : base ≤ w.heap.size)
    (h : ∀ v' w', w'.ownsRow base 52 3 v' (l ++ m).length (cF (l ++ m)) → w.grownBy w' v.ownBlock → wpList Tryd.prog ops Q rest (a.put o.dst v') w') : wpList Tryd.prog ops Q (o :: rest) a w := by
  obtain ⟨i0, hi0, hz0, hz1, hz2⟩ := info_parts infoFd
  subst hn
  cases A with
  | none =>
    have hc := hA rfl
    subst hc
    have hmn : m = [] := by
      rcases m with _ | ⟨x, r⟩
      · rfl
      · obtain ⟨b, o, e, _⟩ := hm (by simp)
        cases e
    subst hmn
    refine wpList_append_own_none hgd s x 30 ho base 52 i0 3 Tryd.underlying30 hi0 v l.length (cF l) hs hown hx ?_
    exact h v w (by simpa using hown) (World.grownBy.refl w _)
  | some ad =>
    refine wpList_append_own w hgd s x 30 ho base 52 i0 _ 3 40 Tryd.underlying30 hi0 hz0 hz1 hz2 rfl (by decide) v l.length (cF l) hs hown ad m.length c (cF m) hx (cF_len m) hm.cells (cF_one _) ?_ ?_ hbase ?_
    · unfold maxLen; omega
    · omega
    · intro v' w' h1 h2 _
      rw [← cF_app] at h1
      exact h v' w' (by simpa using h1) h2
theorem elemFs : Tryd.prog.underlying 30 = some (.slice (Tryd.prog.elem 30)) := by kernel_rfl
theorem sizeFd (w : World) : (sizeOf (Tryd.prog.elem 30)).run Tryd.prog w = .ok 3 w := by kernel_rfl
/-- The address at which a list of fields begins that is cut at q. -/
def cutF (A : Option Addr) (c q : Nat) : Option Addr := if c = q then A else A.map (·.add (q * 3))
theorem sliceF_h (A : Option Addr) (n c q : Nat) (w : World) (h : q ≤ c) : (Instr.sliceAt 30 (.slice A n c) none (some (.int .i64 q)) none).run Tryd.prog w = .ok (.slice (cutF A c 0) q c) w := by
  rw [run_sliceAt_slice w 30 _ _ _ _ elemFs, run_slice_h w 30 A n c elemFs .i64 q (by omega) (by omega), sizeFd]
  simp [sliced, cutF, Result.andThen]
theorem sliceF_l (A : Option Addr) (n c q r : Nat) (w : World) (h : q ≤ n) (hr : n - q = r) : (Instr.sliceAt 30 (.slice A n c) (some (.int .i64 q)) none none).run Tryd.prog w = .ok (.slice (cutF A c q) r (c - q)) w := by
  subst hr
  rw [run_sliceAt_slice w 30 _ _ _ _ elemFs, run_slice_l w 30 A n c elemFs .i64 q (by omega) (by omega), sizeFd]
  simp [sliced, cutF, Result.andThen]
theorem cutF_none {A : Option Addr} {c q : Nat} (h : A = none → c = 0) : cutF A c q = none → c - q = 0 := by
  intro hn
  unfold cutF at hn
  split at hn
  · omega
  · rw [Option.map_eq_none_iff] at hn
    have := h hn
    omega
theorem AtF.cut {w : World} {B c q : Nat} {A : Option Addr} {l l' : List Fld} (h : AtF w B A l) (hc : l.length ≤ c) (hl : ∀ i, i < l'.length → q + i < l.length ∧ l'[i]? = l[q + i]?) : AtF w B (cutF A c q) l' := fun hne => by
  have hpos : 0 < l'.length := List.length_pos_iff.2 hne
  have h0 := (hl 0 hpos).1
  obtain ⟨b, o, rfl, hB, hcell⟩ := h (by rintro rfl; simp at h0)
  refine ⟨b, o + q * 3, ?_, hB, fun i hi => ?_⟩
  · rw [cutF, if_neg (by omega)]
    simp [plain_add]
  · obtain ⟨h1, h2⟩ := hl i hi
    rw [List.getElem?_eq_getElem hi, List.getElem?_eq_getElem h1] at h2
    injection h2 with h2
    rw [show o + q * 3 + i * 3 = o + (q + i) * 3 by omega, h2]
    exact hcell (q + i) h1
theorem AtF.take {w : World} {B c q : Nat} {A : Option Addr} {l : List Fld} (h : AtF w B A l) (hc : l.length ≤ c) : AtF w B (cutF A c 0) (l.take q) :=
  h.cut (q := 0) hc (fun i hi => by
    have hi' : i < q ∧ i < l.length := by simp at hi; omega
    exact ⟨by omega, by rw [Nat.zero_add, List.getElem?_take, if_pos hi'.1]⟩)
theorem AtF.drop {w : World} {B c q : Nat} {A : Option Addr} {l : List Fld} (h : AtF w B A l) (hc : l.length ≤ c) : AtF w B (cutF A c q) (l.drop q) :=
  h.cut (q := q) hc (fun i hi => by
    have hi' : q + i < l.length := by simp at hi; omega
    exact ⟨hi', by rw [List.getElem?_drop]⟩)
end Go.Proofs.YtiandidencnlcaaDoor
