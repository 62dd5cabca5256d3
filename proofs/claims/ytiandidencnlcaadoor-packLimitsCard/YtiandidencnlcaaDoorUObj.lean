/- Few of stage 9. -/
import Derived.Test.YtiandidencnlcaaDoorSFew
import Derived.Test.YtiandidencnlcaaDoorLRowF
import Derived.Test.YtiandidencnlcaaDoorQRef
import Derived.Test.YtiandidencnlcaaDoorQMath
import Derived.Test.YtiandidencnlcaaDoorSFind
namespace Go.Proofs.YtiandidencnlcaaDoor
open Go.RowKit

def Opp.small (q : Opp) : Bool := decide (q.flds.length ≤ 200) && decide (q.lims.length ≤ 50)
/-- The calls are few, and small. -/
def few9 (l : List Opp) : Bool := (l.take 60).all Opp.small && (decide (l.length ≤ 60) && few ((l.take 60).flatMap Opp.flds))
theorem all_len : ∀ (l : List Opp), l.all Opp.small = true → (l.flatMap Opp.flds).length ≤ 200 * l.length
  | [], _ => by simp
  | q :: r, h => by
    rw [List.all_cons, Bool.and_eq_true] at h
    have h1 := all_len r h.2
    have h2 := h.1
    simp only [Opp.small, Bool.and_eq_true, decide_eq_true_eq] at h2
    rw [List.flatMap_cons, List.length_append, List.length_cons]
    omega
def F9R (w : World) (l : List Opp) (v s i : Value) (wr : World) : Prop := ∃ k N : Nat, k ≤ l.length ∧ k ≤ 60 ∧ i = .int .i64 (k : Int) ∧ s = .int .i64 (N : Int) ∧ N ≤ 50 * k ∧ (l.take k).all Opp.small = true ∧ wr.ownsRow w.heap.size 52 3 v ((l.take k).flatMap Opp.flds).length (cF ((l.take k).flatMap Opp.flds)) ∧ Below w.heap.size w wr
set_option maxRecDepth 100000 in
set_option maxHeartbeats 8000000 in
theorem few9_any (A : Option Addr) (l : List Opp) (n c : Nat) (w : World) (hA : AtP w w.heap.size A l) (hl : l.length = n) : Calls Tryd.prog 11 #[.slice A n c] w (BoolPost w (few9 l)) := by
  have HA := Lib.hid hA
  have HL := Lib.hid hl
  clear hA hl
  go_enter Tryd.func11, Tryd.ntmps11
  go_wp2
  go_loopw [3, 4, 5] (fun v s i wr => F9R w l v s i wr) (fun _ _ i _ => n - (intOf i).toNat)
  case atStart => exact ⟨0, 0, Nat.zero_le _, by omega, rfl, rfl, by omega, rfl, World.ownsRow_nil _ _ _ _, Below.refl _ _⟩
  case round =>
    obtain ⟨k, N, hk, hk2, rfl, rfl, hN, hall, hown, hbw⟩ := hrel
    obtain ⟨A3, c3, hv3, hc3, hA3⟩ := rowF_shape hown
    subst hv3
    have hlen := all_len _ hall
    rw [List.length_take, show min k l.length = k by omega] at hlen
    obtain ⟨F, hF⟩ : ∃ F, F = (l.take k).flatMap Opp.flds := ⟨_, rfl⟩
    rw [← hF] at hlen hc3 hown ⊢
    obtain ⟨R, hR⟩ : ∃ R, R = F.length := ⟨_, rfl⟩
    have HRR := Lib.hid hR
    have HOWN : Hid (wr.ownsRow w.heap.size 52 3 (.slice A3 R c3) F.length (cF F)) := Lib.hid (by rw [hR]; exact hown)
    rw [← hR] at hlen hc3 ⊢
    have HFF := Lib.hid hF
    clear hR hown hF
    by_cases hlt : k < n
    · have ki : (k : Int) < (n : Int) := by omega
      by_cases h60 : k < 60
      · have ki2 : (k : Int) < 60 := by omega
        have hkl : k < l.length := by have := HL.out; omega
        obtain ⟨b, o, rfl, hb, hc⟩ := HA.out.pos (by omega)
        obtain ⟨d0, d1, hok⟩ := hc k hkl
        obtain ⟨q, hq⟩ : ∃ q, q = l[k] := ⟨_, rfl⟩
        rw [← hq] at d0 d1 hok
        have y0 : wr.cell? ⟨b, o + k * 2, none⟩ = some (.slice q.lad q.lims.length q.lcap) := (hbw.cell (p := ⟨b, o + k * 2, none⟩) hb).trans d0
        have y1 : wr.cell? ⟨b, o + k * 2 + 1, none⟩ = some (.slice q.fad q.flds.length q.fcap) := (hbw.cell (p := ⟨b, o + k * 2 + 1, none⟩) hb).trans d1
        have HNX : Hid (l.take (k + 1) = l.take k ++ [q]) := Lib.hid (by rw [List.take_succ_eq_append_getElem hkl, hq])
        obtain ⟨fl, hfl⟩ : ∃ x, x = q.flds.length := ⟨_, rfl⟩
        obtain ⟨ll, hll⟩ : ∃ x, x = q.lims.length := ⟨_, rfl⟩
        rw [← hll] at y0 d0
        rw [← hfl] at y1
        have HOK := Lib.hid (hok.up hbw)
        have HALL := Lib.hid hall
        have HNO : Hid (¬ (fl ≤ 200 ∧ ll ≤ 50) → few9 l = false) := Lib.hid (fun h => by
          rw [few9]
          have hm : q ∈ l.take 60 := by
            rw [hq]
            have : k < (l.take 60).length := by rw [List.length_take]; omega
            have h3 := List.getElem_mem this
            rwa [List.getElem_take] at h3
          have : (l.take 60).all Opp.small = false := by
            rw [List.all_eq_false]
            refine ⟨q, hm, ?_⟩
            simp only [Opp.small, Bool.and_eq_true, decide_eq_true_eq]
            rw [← hfl, ← hll]
            exact h
          rw [this]
          rfl)
        have HFL := Lib.hid hfl
        have HLL := Lib.hid hll
        have HD0 := Lib.hid d0
        clear hc d0 d1 hok hq hall hfl hll hkl
        by_cases h200 : fl ≤ 200
        · have f1 : ¬ (200 : Int) < (fl : Int) := by omega
          by_cases h50 : ll ≤ 50
          · have f2 : ¬ (50 : Int) < (ll : Int) := by omega
            have eN : (N : Int) + (ll : Int) = ((N + ll : Nat) : Int) := by omega
            obtain ⟨N2, hN2⟩ : ∃ x, x = N + ll := ⟨_, rfl⟩
            rw [← hN2] at eN
            have hNb : N2 ≤ 50 * 61 := by omega
            have HN2 := Lib.hid hN2
            clear hN2
            go_wp2_with (at_builtin; refine wpList_append_F rfl (.tmp 32) (.tmp 37) rfl w.heap.size _ F rfl HOWN.out q.fad q.flds fl q.fcap HFL.out.symm rfl HOK.out.fnil _ HOK.out.fs ?_ ?_ ?_; (rotate_right; intro v9 w9 hown9 hg9; have hb9 := hbw.grown hg9 (by have := hbw.size; omega) (rowF_block HOWN.out); have y9 : w9.cell? ⟨b, o + k * 2, none⟩ = some (.slice q.lad ll q.lcap) := (hb9.cell (p := ⟨b, o + k * 2, none⟩) hb).trans HD0.out))
            · skip
              have HB9 := Lib.hid hb9
              have HO9 : Hid (w9.ownsRow w.heap.size 52 3 v9 ((l.take (k + 1)).flatMap Opp.flds).length (cF ((l.take (k + 1)).flatMap Opp.flds))) := Lib.hid (by
                rw [HNX.out, List.flatMap_append, List.flatMap_cons, List.flatMap_nil, List.append_nil, ← HFF.out]
                exact hown9)
              clear hb9 hg9 hown9 y0 y1
              go_wp2
              go_roundw
              case rel => exact ⟨k + 1, N2, by have := HL.out; omega, by omega, by go_num, rfl, by have := HN2.out; omega, by
                rw [HNX.out, List.all_append, HALL.out, Bool.true_and]
                simp only [List.all_cons, List.all_nil, Bool.and_true, Opp.small, Bool.and_eq_true, decide_eq_true_eq]
                exact ⟨by rw [← HFL.out]; exact h200, by rw [← HLL.out]; exact h50⟩, HO9.out, HB9.out⟩
              case measure => simp [intOf]; omega
            all_goals first | (have := HFL.out; have := HRR.out; omega) | (have := hbw.size; omega)
          · have f2 : (50 : Int) < (ll : Int) := by omega
            have HF := Lib.hid (HNO.out (by omega))
            clear HOWN
            go_wp2
            go_ret
            rw [HF.out]
            exact ⟨rfl, hbw⟩
        · have f1 : (200 : Int) < (fl : Int) := by omega
          have HF := Lib.hid (HNO.out (by omega))
          clear HOWN
          go_wp2
          go_ret
          rw [HF.out]
          exact ⟨rfl, hbw⟩
      · obtain rfl : k = 60 := by omega
        have ki2 : ¬ (60 : Int) < 60 := by omega
        have hn2 : ¬ (n : Int) ≤ 60 := by omega
        have HF : Hid (few9 l = false) := Lib.hid (by rw [few9, decide_eq_false (by have := HL.out; omega), Bool.false_and, Bool.and_false])
        clear HOWN
        go_wp2
        go_ret
        rw [HF.out]
        exact ⟨rfl, hbw⟩
    · obtain rfl : k = n := by have := HL.out; omega
      have ki : ¬ (k : Int) < (k : Int) := by omega
      have hn2 : (k : Int) ≤ 60 := by omega
      have e : l.take k = l := List.take_of_length_le (by have := HL.out; omega)
      have e60 : l.take 60 = l := List.take_of_length_le (by have := HL.out; omega)
      have hown := HOWN.out
      have hR := HRR.out
      have hF := HFF.out
      rw [e] at hF hall
      subst hF
      have HFIT : Hid (∀ f ∈ l.flatMap Opp.flds, f.fit) := Lib.hid (fun f hf => by
        rw [List.mem_flatMap] at hf
        obtain ⟨q, hq, hf⟩ := hf
        obtain ⟨i, hi, rfl⟩ := List.getElem_of_mem hq
        obtain ⟨b, o, _, _, hc⟩ := HA.out.pos (by omega)
        exact (hc i hi).2.2.fit f hf)
      have HF : Hid (few9 l = few (l.flatMap Opp.flds)) := Lib.hid (by rw [few9, e60, hall, Bool.true_and, decide_eq_true (by have := HL.out; omega), Bool.true_and])
      rw [← hR] at hown
      have hat := AtF.of_own hown
      have HFEW := Lib.hid (few_any A3 (l.flatMap Opp.flds) R c3 wr hat hR.symm HFIT.out)
      generalize few (l.flatMap Opp.flds) = U at HFEW HF
      clear hown hat hR HOWN HRR
      go_wp2_with fail
      with_reducible refine (HFEW.out).mono ?_
      rintro e w2 ⟨rfl, hb2⟩
      have hZ := hbw.trans (hb2.mono hbw.size)
      clear hb2
      go_wp2
      go_ret
      rw [HF.out]
      exact ⟨rfl, hZ⟩
/-- What few calls are. -/
theorem few9_is {l : List Opp} (h : few9 l = true) : l.length ≤ 60 ∧ (∀ q ∈ l, q.flds.length ≤ 200 ∧ q.lims.length ≤ 50) ∧ tot (l.flatMap Opp.flds) ≤ 46400 := by
  rw [few9, Bool.and_eq_true, Bool.and_eq_true, decide_eq_true_eq] at h
  obtain ⟨h1, h2, h3⟩ := h
  rw [List.take_of_length_le h2] at h1 h3
  refine ⟨h2, fun q hq => ?_, (few_tot h3).2⟩
  have := List.all_eq_true.1 h1 q hq
  simpa only [Opp.small, Bool.and_eq_true, decide_eq_true_eq] using this
end Go.Proofs.YtiandidencnlcaaDoor
/- A literal list of fields lies in new memory. -/
namespace Go.Proofs.YtiandidencnlcaaDoor
open Go.RowKit

theorem atF_lit (w : World) (l : List Fld) : AtF (w.alloc (.cells (cF l).toArray 52)) (w.alloc (.cells (cF l).toArray 52)).heap.size (some ⟨w.heap.size, 0, none⟩) l := fun _ => by
  have hn : (w.alloc (.cells (cF l).toArray 52)).heap[w.heap.size]? = some (.cells (cF l).toArray 52 (0, 0)) := heap_alloc_new w _
  refine ⟨w.heap.size, 0, rfl, by simp, fun i hi => ?_⟩
  obtain ⟨d0, d1, d2⟩ := cF_at l i hi
  simp only [Nat.zero_add]
  exact ⟨(cell_of_row _ _ _ _ 52 _ hn).trans (by simpa using d0), (cell_of_row _ _ _ _ 52 _ hn).trans (by simpa using d1), (cell_of_row _ _ _ _ 52 _ hn).trans (by simpa using d2)⟩
end Go.Proofs.YtiandidencnlcaaDoor
/- What the chapter's example fixes. -/
namespace Go.Proofs.YtiandidencnlcaaDoor
open Go.RowKit

set_option maxRecDepth 100000 in
theorem enc_first : EncS.new.enc [⟨⟨#[58, 115, 116, 97, 116, 117, 115]⟩, ⟨#[50, 48, 48]⟩, false⟩] = ([136], 0, ⟨4096, [], 4096, 0, false⟩) := by kernel_rfl
set_option maxRecDepth 100000 in
set_option maxHeartbeats 4000000 in
theorem first9_any (w : World) (hR : Rdy w) : Calls Tryd.prog 8 #[] w (Yes w) := by
  have HR := Lib.hid fun (w' : World) (hb : Below w.heap.size w w') => hR.below hb
  have HN := Lib.hid (HasQ.new (w := w) hR (Below.refl _ _))
  clear hR
  go_enter Tryd.func8, Tryd.ntmps8
  go_wp2_with fail
  with_reducible refine (HN.out).mono ?_
  rintro e w1 ⟨p, t, rfl, hH1, hb1⟩
  have hba : Below w1.heap.size w1 (w1.alloc (.cells #[.string ⟨#[58, 115, 116, 97, 116, 117, 115]⟩, .string ⟨#[50, 48, 48]⟩, .bool false] 52)) := (Below.refl _ _).alloc (Nat.le_refl _) _
  have hH2 := hH1.more hba
  have HD := hH2.enc (HR.out _ hH2.below) (some ⟨w1.heap.size, 0, none⟩) [⟨⟨#[58, 115, 116, 97, 116, 117, 115]⟩, ⟨#[50, 48, 48]⟩, false⟩] 1 1 (atF_lit w1 [⟨⟨#[58, 115, 116, 97, 116, 117, 115]⟩, ⟨#[50, 48, 48]⟩, false⟩]) rfl (fun h => by cases h) (Nat.le_refl _) (fun _ a ha => by injection ha with ha; subst ha; exact .inr ⟨Nat.le_refl _, by simp⟩) (by decide)
  rw [enc_first] at HD
  simp only [List.length_cons, List.length_nil] at HD
  replace HD := Lib.hid HD
  clear hba hH1 hH2 HN hb1
  go_wp2_with fail
  with_reducible refine (HD.out).mono ?_
  rintro e w2 ⟨A2, c2, rfl, hH3, ho⟩
  obtain ⟨bk, o, rfl, hbk, hc⟩ := ho.at' (by simp)
  have y0 := hc 0 (by simp)
  simp only [List.getElem_cons_zero, Nat.add_zero] at y0
  have hZ := hH3.below
  clear HD ho hc hH3
  go_wp2
  go_ret
  exact ⟨rfl, hZ⟩
end Go.Proofs.YtiandidencnlcaaDoor
/- Tables none of whose fields is never to be added. -/
namespace Go.Proofs.YtiandidencnlcaaDoor
open Go.RowKit

/-- No field of the list is never to be added. -/
def NoNev (L : List Fld) : Prop := ∀ f ∈ L, f.never = false
theorem NoNev.field {L : List Fld} (h : NoNev L) (i : Int) : (ufield L i).1.never = false := by
  rw [ufield]
  split
  · rw [stg]
    split <;> rfl
  · rw [getL]
    split
    · rename_i h1
      have hlt : (i - 61).toNat - 1 < L.length := by omega
      rw [List.getD, List.getElem?_eq_getElem hlt]
      exact h _ (List.getElem_mem hlt)
    · rfl
theorem NoNev.fit {L : List Fld} (h : NoNev L) (m : Nat) : NoNev (fitL m L) := by
  obtain ⟨k, hk⟩ := fit_pre m L
  rw [hk]
  exact fun f hf => h f (List.mem_of_mem_take hf)
theorem NoNev.add {L : List Fld} (h : NoNev L) (m : Nat) (f : Fld) : NoNev (addL m f L) := by
  rw [addL]
  refine NoNev.fit (fun g hg => ?_) m
  rcases List.mem_cons.1 hg with rfl | hg
  · rfl
  · exact h g hg
theorem NoNev.nil : NoNev [] := fun f hf => by simp at hf
end Go.Proofs.YtiandidencnlcaaDoor
/- The landed decoder in memory: its table, is it dead. Once it is dead, its table is some table. -/
namespace Go.Proofs.YtiandidencnlcaaDoor
open Go.RowKit

/-- The program's decoder lies at block p, its table at t; S: the blocks that are its own. -/
def UD1 (w : World) (S : Nat → Prop) (p t m : Nat) (L : List Fld) (dead : Bool) : Prop :=
  ∃ S1, w.heap[p]? = some (.cells #[.pointer (some ⟨t, 0, none⟩), .bool dead] 73 (0, 0)) ∧ DT w S1 t m L ∧ ¬ S1 p ∧ (∀ x, S x ↔ x = p ∨ S1 x) ∧ Free S ∧ NoNev L
/-- So; of a dead one the table is any. -/
def UD (w : World) (S : Nat → Prop) (p t m : Nat) (L : List Fld) (dead : Bool) : Prop := ∃ m1 L1, UD1 w S p t m1 L1 dead ∧ (dead = false → m1 = m ∧ L1 = L)
section
variable {w w' : World} {S S' : Nat → Prop} {p t m : Nat} {L : List Fld} {dead : Bool}
theorem UD1.lt (h : UD1 w S p t m L dead) : p < w.heap.size := by
  obtain ⟨S1, hh, _⟩ := h
  exact lt_of_heap hh
theorem UD1.low (h : UD1 w S p t m L dead) : ∀ x, S x → x < w.heap.size := by
  obtain ⟨S1, hh, hT, hn, hS, _⟩ := h
  intro x hx
  rcases (hS x).1 hx with rfl | h
  · exact lt_of_heap hh
  · exact hT.low x h
theorem UD1.keep (h : UD1 w S p t m L dead) (hk : Keeps S' w w') (hd : ∀ x, S x → ¬ S' x) : UD1 w' S p t m L dead := by
  have hp := h.lt
  obtain ⟨S1, hh, hT, hn, hS, hF⟩ := h
  exact ⟨S1, (hk.block p hp (hd p ((hS p).2 (.inl rfl)))).trans hh, hT.keep hk (fun x hx => hd x ((hS x).2 (.inr hx))), hn, hS, hF⟩
theorem UD1.quiet (h : UD1 w S p t m L dead) (hb : Below w.heap.size w w') : UD1 w' S p t m L dead := h.keep (S' := fun _ => False) (Keeps.of_below hb) (fun _ _ h => h)
theorem UD.low (h : UD w S p t m L dead) : ∀ x, S x → x < w.heap.size := by
  obtain ⟨m1, L1, h, _⟩ := h
  exact h.low
theorem UD.keep (h : UD w S p t m L dead) (hk : Keeps S' w w') (hd : ∀ x, S x → ¬ S' x) : UD w' S p t m L dead := by
  obtain ⟨m1, L1, h, he⟩ := h
  exact ⟨m1, L1, h.keep hk hd, he⟩
theorem UD.quiet (h : UD w S p t m L dead) (hb : Below w.heap.size w w') : UD w' S p t m L dead := h.keep (S' := fun _ => False) (Keeps.of_below hb) (fun _ _ h => h)
/-- Its table, for reading. -/
theorem UD.dt (h : UD w S p t m L dead) : ∃ S2 m1 L1, DT w S2 t m1 L1 ∧ (dead = false → m1 = m ∧ L1 = L) := by
  obtain ⟨m1, L1, ⟨S1, _, hT, _⟩, he⟩ := h
  exact ⟨S1, m1, L1, hT, he⟩
theorem UD1.whole (h : UD1 w S p t m L dead) : UD w S p t m L dead := ⟨m, L, h, fun _ => ⟨rfl, rfl⟩⟩
end
/-- What a block hands back of the program's decoder: fields in new memory, what went wrong; the decoder then. -/
def UPost (S : Nat → Prop) (w : World) (p t : Nat) (r : Blk) (e : Ending) (w' : World) : Prop :=
  ∃ S' A c, e = .returned (.tuple #[.slice A r.out.length c, .int .i64 ((r.err : Nat) : Int)]) ∧ UD w' S' p t r.most r.tab r.dead ∧ (∀ x, S' x → S x ∨ w.heap.size ≤ x) ∧ Keeps S w w' ∧ AtF w' w'.heap.size A r.out ∧ (A = none → c = 0) ∧ r.out.length ≤ c ∧ (∀ b o s, A = some ⟨b, o, s⟩ → w.heap.size ≤ b ∧ ¬ S' b)
set_option maxRecDepth 100000 in
theorem utab_f (w : World) (_ : Rdy w) (S : Nat → Prop) (p t m : Nat) (L : List Fld) (dead : Bool) (hU : UD w S p t m L dead) : Calls Tryd.prog 22 #[.pointer (some ⟨p, 0, none⟩)] w fun e w' => e = .returned (.pointer (some ⟨t, 0, none⟩)) ∧ Below w.heap.size w w' := by
  obtain ⟨m1, L1, ⟨S1, hh, _⟩, _⟩ := hU
  have x0 : w.cell? ⟨p, 0, none⟩ = some (.pointer (some ⟨t, 0, none⟩)) := cell_of_row _ p 0 _ 73 _ hh
  clear hh
  go_enter Tryd.func22, Tryd.ntmps22
  go_wp2
  go_ret
  exact ⟨rfl, Below.refl _ _⟩
set_option maxRecDepth 100000 in
theorem unew_f (w : World) (hR : Rdy w) : Calls Tryd.prog 19 #[] w fun e w' => ∃ p t S, e = .returned (.pointer (some ⟨p, 0, none⟩)) ∧ UD w' S p t 4096 [] false ∧ (∀ x, S x → w.heap.size ≤ x) ∧ Below w.heap.size w w' := by
  have hN := dnew_ok 4096 w hR (Nat.le_refl _)
  rw [show ((4096 : Nat) : Int) = 4096 from rfl] at hN
  have HN := Lib.hid hN
  have HR := Lib.hid hR
  clear hR hN
  go_enter Tryd.func19, Tryd.ntmps19
  go_wp2_with fail
  with_reducible refine (HN.out).mono ?_
  rintro e w1 ⟨t, S1, rfl, hT, hS1, hb1⟩
  have HT := Lib.hid hT
  have HS := Lib.hid hS1
  have HB := Lib.hid hb1
  clear hT hS1 hb1 HN
  go_wp2
  go_ret
  have hb2 : Below w1.heap.size w1 (w1.alloc (.cells #[.pointer (some ⟨t, 0, none⟩), .bool false] 73)) := (Below.refl _ _).alloc (Nat.le_refl _) _
  refine ⟨w1.heap.size, t, fun x => x = w1.heap.size ∨ S1 x, rfl, UD1.whole ⟨S1, heap_alloc_new w1 _, HT.out.keep (S' := fun _ => False) (Keeps.of_below hb2) (fun _ _ h => h), fun h => ?_, fun x => Iff.rfl, Free.new HR.out (fun x hx => ?_), NoNev.nil⟩, fun x hx => ?_, HB.out.trans (hb2.mono HB.out.size)⟩
  · have := HT.out.low _ h
    omega
  · rcases hx with rfl | hx
    · exact HB.out.size
    · exact HS.out x hx
  · rcases hx with rfl | hx
    · exact HB.out.size
    · exact HS.out x hx
end Go.Proofs.YtiandidencnlcaaDoor
