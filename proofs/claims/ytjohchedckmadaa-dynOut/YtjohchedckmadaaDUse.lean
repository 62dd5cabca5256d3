/- One table in use: what each call needs and leaves, in one word. -/
import Derived.Test.YtjohchedckmadaaDFace
import Derived.Test.YtjohchedckmadaaSFew
import Derived.Test.YtjohchedckmadaaLOp
namespace Go.Proofs.Ytjohchedckmadaa
open Go.RowKit

/-- Since w a table was made at p, out of new blocks; it holds l now, and nothing that lay in w has turned. -/
def Has (w : World) (p m : Nat) (l : List Fld) (wr : World) : Prop := ∃ S, DT wr S p m l ∧ (∀ x, S x → w.heap.size ≤ x) ∧ Below w.heap.size w wr
section
variable {w wr w' : World} {p m : Nat} {l : List Fld}
theorem Has.below (h : Has w p m l wr) : Below w.heap.size w wr := by
  obtain ⟨_, _, _, h⟩ := h
  exact h
theorem Has.fits (h : Has w p m l wr) : tot l ≤ m ∧ m ≤ 4096 := by
  obtain ⟨_, h, _⟩ := h
  exact h.fits
theorem Has.quiet (h : Has w p m l wr) (hb : Below wr.heap.size wr w') : Has w p m l w' := by
  obtain ⟨S, hT, hS, hw⟩ := h
  exact ⟨S, hT.keep (S' := fun _ => False) (Keeps.of_below hb) (fun _ _ h => h), hS, hw.trans (hb.mono hw.size)⟩
theorem Has.post {S : Nat → Prop} {m2 : Nat} {l2 : List Fld} (hS : ∀ x, S x → w.heap.size ≤ x) (hw : Below w.heap.size w wr) (h : DPost S wr p m2 l2 w') : Has w p m2 l2 w' := by
  obtain ⟨S2, hT, hS2, hK⟩ := h
  refine ⟨S2, hT, fun x hx => ?_, hw.trans (hK.below hS hw.size)⟩
  rcases hS2 x hx with h1 | h1
  · exact hS x h1
  · exact Nat.le_trans hw.size h1
theorem Has.new (hR : Rdy wr) (hw : Below w.heap.size w wr) (hm : m ≤ 4096) (z : Int) (hz : z = (m : Int)) : Calls Try.prog 9 #[.int .i64 z] wr fun e w' => ∃ p, e = .returned (.tuple #[.pointer (some ⟨p, 0, none⟩), .int .i64 0]) ∧ Has w p m [] w' := by
  subst hz
  refine (dnew_ok m wr hR hm).mono ?_
  rintro e w1 ⟨p, S, rfl, hT, hS, hb⟩
  exact ⟨p, rfl, S, hT, fun x hx => Nat.le_trans hw.size (hS x hx), hw.trans (hb.mono hw.size)⟩
theorem Has.add (h : Has w p m l wr) (hR : Rdy wr) (f : Fld) (hf : fsize f ≤ 46400) : Calls Try.prog 11 #[.pointer (some ⟨p, 0, none⟩), .agg #[.string f.name, .string f.value, .bool f.never]] wr fun e w' => e = .returned (.tuple #[]) ∧ Has w p m (addL m f l) w' := by
  obtain ⟨S, hT, hS, hw⟩ := h
  refine (dadd_f wr S p m l f hR hT hf).mono ?_
  rintro e w1 ⟨rfl, hP⟩
  exact ⟨rfl, Has.post hS hw hP⟩
theorem Has.limit (h : Has w p m l wr) (hR : Rdy wr) (k : Nat) (hk : k ≤ 4096) (z : Int) (hz : z = (k : Int)) : Calls Try.prog 13 #[.pointer (some ⟨p, 0, none⟩), .int .i64 z] wr fun e w' => e = .returned (.int .i64 0) ∧ Has w p k (fitL k l) w' := by
  subst hz
  obtain ⟨S, hT, hS, hw⟩ := h
  refine (dlimit_ok wr S p m k l hR hT hk).mono ?_
  rintro e w1 ⟨rfl, hP⟩
  exact ⟨rfl, Has.post hS hw hP⟩
theorem Has.limit_no (h : Has w p m l wr) (hR : Rdy wr) (k : Int) (hk : k < 0 ∨ 4096 < k) (hr : Rng k) : Calls Try.prog 13 #[.pointer (some ⟨p, 0, none⟩), .int .i64 k] wr fun e w' => e = .returned (.int .i64 1) ∧ Has w p m l w' := by
  obtain ⟨S, hT, _⟩ := id h
  refine (dlimit_no wr S p m k l hR hT hk hr).mono ?_
  rintro e w1 ⟨rfl, hb⟩
  exact ⟨rfl, h.quiet hb⟩
theorem Has.get (h : Has w p m l wr) (hR : Rdy wr) (i : Int) (hi : Rng i) : Calls Try.prog 15 #[.pointer (some ⟨p, 0, none⟩), .int .i64 i] wr fun e w' => e = .returned (.tuple #[.agg #[.string (getL l i).1.name, .string (getL l i).1.value, .bool (getL l i).1.never], .bool (getL l i).2]) ∧ Has w p m l w' ∧ Below wr.heap.size wr w' := by
  obtain ⟨S, hT, _⟩ := id h
  refine (dget_f wr S p m l i hR hT hi).mono ?_
  rintro e w1 ⟨rfl, hb⟩
  exact ⟨rfl, h.quiet hb, hb⟩
theorem Has.find (h : Has w p m l wr) (hR : Rdy wr) (nm vl : ByteArray) (hn : nm.size ≤ 140737488355328) (hv : vl.size ≤ 140737488355328) : Calls Try.prog 17 #[.pointer (some ⟨p, 0, none⟩), .string nm, .string vl] wr fun e w' => e = .returned (.tuple #[.int .i64 (((fndL nm.toList vl.toList l 0).1 : Nat) : Int), .int .i64 (((fndL nm.toList vl.toList l 0).2 : Nat) : Int)]) ∧ Has w p m l w' ∧ Below wr.heap.size wr w' := by
  obtain ⟨S, hT, _⟩ := id h
  refine (dfind_f wr S p m l nm vl hR hT hn hv).mono ?_
  rintro e w1 ⟨rfl, hb⟩
  exact ⟨rfl, h.quiet hb, hb⟩
theorem Has.len (h : Has w p m l wr) (hR : Rdy wr) : Calls Try.prog 19 #[.pointer (some ⟨p, 0, none⟩)] wr fun e w' => e = .returned (.int .i64 (l.length : Int)) ∧ Has w p m l w' ∧ Below wr.heap.size wr w' := by
  obtain ⟨S, hT, _⟩ := id h
  refine (dlen_f wr S p m l hR hT).mono ?_
  rintro e w1 ⟨rfl, hb⟩
  exact ⟨rfl, h.quiet hb, hb⟩
theorem Has.size (h : Has w p m l wr) (hR : Rdy wr) : Calls Try.prog 20 #[.pointer (some ⟨p, 0, none⟩)] wr fun e w' => e = .returned (.int .i64 ((tot l : Nat) : Int)) ∧ Has w p m l w' ∧ Below wr.heap.size wr w' := by
  obtain ⟨S, hT, _⟩ := id h
  refine (dsize_f wr S p m l hR hT).mono ?_
  rintro e w1 ⟨rfl, hb⟩
  exact ⟨rfl, h.quiet hb, hb⟩
theorem Has.most (h : Has w p m l wr) (hR : Rdy wr) : Calls Try.prog 22 #[.pointer (some ⟨p, 0, none⟩)] wr fun e w' => e = .returned (.int .i64 (m : Int)) ∧ Has w p m l w' ∧ Below wr.heap.size wr w' := by
  obtain ⟨S, hT, _⟩ := id h
  refine (dmost_f wr S p m l hR hT).mono ?_
  rintro e w1 ⟨rfl, hb⟩
  exact ⟨rfl, h.quiet hb, hb⟩
end
def Yes (w : World) (e : Ending) (w' : World) : Prop := e = .returned (.bool true) ∧ Below w.heap.size w w'
set_option maxRecDepth 100000 in
set_option maxHeartbeats 4000000 in
theorem first_any (w : World) (hR : Rdy w) : Calls Try.prog 7 #[] w (Yes w) := by
  have HR := Lib.hid fun (w' : World) (hb : Below w.heap.size w w') => hR.below hb
  have HN := Lib.hid (Has.new (m := 40) hR (Below.refl _ _) (by omega) 40 rfl)
  clear hR
  go_enter Try.func7, Try.ntmps7
  go_wp2_with fail
  with_reducible refine (HN.out).mono ?_
  rintro e w1 ⟨p, rfl, hH1⟩
  have HA := Lib.hid (hH1.add (HR.out _ hH1.below) ⟨⟨#[97]⟩, ⟨#[]⟩, false⟩ (by decide))
  clear hH1 HN
  go_wp2_with fail
  with_reducible refine (HA.out).mono ?_
  rintro e w2 ⟨rfl, hH2⟩
  have HL := Lib.hid (hH2.len (HR.out _ hH2.below))
  clear HA hH2
  go_wp2_with fail
  with_reducible refine (HL.out).mono ?_
  rintro e w3 ⟨rfl, hH3, _⟩
  have HA := Lib.hid (hH3.add (HR.out _ hH3.below) ⟨⟨#[98]⟩, ⟨#[]⟩, false⟩ (by decide))
  clear HL hH3
  go_wp2_with fail
  with_reducible refine (HA.out).mono ?_
  rintro e w4 ⟨rfl, hH4⟩
  have e1 : addL 40 ⟨⟨#[97]⟩, ⟨#[]⟩, false⟩ [] = [⟨⟨#[97]⟩, ⟨#[]⟩, false⟩] := rfl
  have e2 : addL 40 ⟨⟨#[98]⟩, ⟨#[]⟩, false⟩ [⟨⟨#[97]⟩, ⟨#[]⟩, false⟩] = [⟨⟨#[98]⟩, ⟨#[]⟩, false⟩] := rfl
  rw [e1, e2] at hH4
  rw [e1]
  have HG := hH4.get (HR.out _ hH4.below) 1 (by unfold Rng; omega)
  rw [show getL [⟨⟨#[98]⟩, ⟨#[]⟩, false⟩] 1 = (⟨⟨#[98]⟩, ⟨#[]⟩, false⟩, true) from rfl] at HG
  have HG := Lib.hid HG
  clear HA hH4 e1 e2
  go_wp2_with fail
  with_reducible refine (HG.out).mono ?_
  rintro e w5 ⟨rfl, hH5, _⟩
  simp only []
  have hbn : Below w5.heap.size w5 (w5.alloc (.cells #[.string ⟨#[98]⟩, .string ⟨#[]⟩, .bool false] 33)) := (Below.refl _ _).alloc (Nat.le_refl _) _
  have hH6 := hH5.quiet hbn
  have HL := Lib.hid (hH6.len (HR.out _ hH6.below))
  obtain ⟨g, hg⟩ : ∃ g, g = w5.heap.size := ⟨_, rfl⟩
  have c0 : (w5.alloc (.cells #[.string ⟨#[98]⟩, .string ⟨#[]⟩, .bool false] 33)).cell? ⟨g, 0, none⟩ = some (.string ⟨#[98]⟩) := by rw [hg]; exact cell_of_row _ w5.heap.size 0 _ 33 _ (heap_alloc_new w5 _)
  have hgl : g < (w5.alloc (.cells #[.string ⟨#[98]⟩, .string ⟨#[]⟩, .bool false] 33)).heap.size := World.block_lt_of_cell? _ _ c0
  clear HG hH5 hbn hH6
  go_wp2_with fail
  with_reducible refine (HL.out).mono ?_
  rintro e w6 ⟨rfl, hH7, hb7⟩
  have d0 : w6.cell? ⟨g, 0, none⟩ = some (.string ⟨#[98]⟩) := (hb7.cell (p := ⟨g, 0, none⟩) hgl).trans c0
  have hZ := hH7.below
  rw [← hg]
  clear c0 hgl hb7 hH7 HL hg
  go_wp2_with fail
  go_ret
  exact ⟨rfl, hZ⟩
/-- The calls are few, and small. -/
def few7 (l : List Opn) : Bool := decide (l.length ≤ 200) && few ((l.take 200).map Opn.fld)
def F7R (w : World) (l : List Opn) (v i : Value) (wr : World) : Prop := ∃ k : Nat, k ≤ l.length ∧ k ≤ 200 ∧ i = .int .i64 (k : Int) ∧ wr.ownsRow w.heap.size 33 3 v k (cF ((l.take k).map Opn.fld)) ∧ Below w.heap.size w wr
set_option maxRecDepth 100000 in
set_option maxHeartbeats 4000000 in
theorem few7_any (A : Option Addr) (l : List Opn) (n c : Nat) (w : World) (hA : AtO w w.heap.size A l) (hl : l.length = n) (hok : ∀ q ∈ l, q.fld.fit) : Calls Try.prog 8 #[.slice A n c] w (BoolPost w (few7 l)) := by
  have HA := Lib.hid hA
  have HL := Lib.hid hl
  have HO := Lib.hid hok
  clear hA hl hok
  go_enter Try.func8, Try.ntmps8
  go_wp2
  go_loopw [3, 4] (fun v i wr => F7R w l v i wr) (fun _ i _ => n - (intOf i).toNat)
  case atStart => exact ⟨0, Nat.zero_le _, by omega, rfl, World.ownsRow_nil _ _ _ _, Below.refl _ _⟩
  case round =>
    obtain ⟨k, hk, hk2, rfl, hown, hbw⟩ := hrel
    obtain ⟨A3, c3, hv3, hc3, hA3⟩ := rowF_shape hown
    subst hv3
    by_cases hlt : k < n
    · have ki : (k : Int) < (n : Int) := by omega
      by_cases h200 : k < 200
      · have ki2 : (k : Int) < 200 := by omega
        have hkl : k < l.length := by have := HL.out; omega
        obtain ⟨b, o, rfl, hb, hc⟩ := HA.out.pos (by omega)
        obtain ⟨q, hq⟩ : ∃ q, q = l[k] := ⟨_, rfl⟩
        have hop := (hc k hkl).below hbw hb
        rw [← hq] at hop
        obtain ⟨_, _, d2, d3, d4⟩ := hop
        have HNX : Hid ((l.take (k + 1)).map Opn.fld = (l.take k).map Opn.fld ++ [q.fld]) := Lib.hid (by rw [List.take_succ_eq_append_getElem hkl, List.map_append, hq]; rfl)
        obtain ⟨_, _, ⟨f1, f2, f3⟩⟩ := q
        simp only [] at d2 d3 d4 HNX
        have hlm : ((l.take k).map Opn.fld).length = k := by rw [List.length_map, List.length_take]; omega
        have HOWN : Hid (wr.ownsRow w.heap.size 33 3 (.slice A3 k c3) ((l.take k).map Opn.fld).length (cF ((l.take k).map Opn.fld))) := Lib.hid (by rw [hlm]; exact hown)
        have hat : AtF (wr.alloc (.cells #[.string f1, .string f2, .bool f3] 33)) (wr.alloc (.cells #[.string f1, .string f2, .bool f3] 33)).heap.size (some ⟨wr.heap.size, 0, none⟩) [⟨f1, f2, f3⟩] := fun _ => by
          refine ⟨wr.heap.size, 0, rfl, by simp, fun i hi => ?_⟩
          have hi0 : i = 0 := by simpa using hi
          subst hi0
          exact ⟨cell_of_row _ wr.heap.size 0 _ 33 _ (heap_alloc_new wr _), cell_of_row _ wr.heap.size 1 _ 33 _ (heap_alloc_new wr _), cell_of_row _ wr.heap.size 2 _ 33 _ (heap_alloc_new wr _)⟩
        have HAT := Lib.hid hat
        clear hc hkl hq hat hown
        go_wp2_with (at_builtin; refine wpList_append_F rfl (.tmp 15) (.tmp 21) rfl w.heap.size _ ((l.take k).map Opn.fld) rfl (HOWN.out.alloc _) (some ⟨wr.heap.size, 0, none⟩) [⟨f1, f2, f3⟩] 1 1 rfl rfl (fun h => by cases h) _ HAT.out ?_ ?_ ?_; (rotate_right; intro v9 w9 hown9 hg9))
        · have hb9 := (hbw.alloc hbw.size _).grown hg9 (by have := hbw.size; simp; omega) (rowF_block HOWN.out)
          rw [← HNX.out, List.length_map, List.length_take, show min (k + 1) l.length = k + 1 by have := HL.out; omega] at hown9
          clear hg9
          go_wp2
          go_roundw
          case rel => exact ⟨k + 1, by have := HL.out; omega, by omega, by go_num, hown9, hb9⟩
          case measure => simp [intOf]; omega
        all_goals first | (simp; omega) | (have := hbw.size; simp; omega) | simp
      · obtain rfl : k = 200 := by omega
        have hn2 : ¬ (n : Int) ≤ 200 := by omega
        have ki2 : ¬ (200 : Int) < 200 := by omega
        have HF : Hid (few7 l = false) := Lib.hid (by rw [few7, decide_eq_false (by have := HL.out; omega)]; rfl)
        clear hown
        go_wp2
        go_ret
        rw [HF.out]
        exact ⟨rfl, hbw⟩
    · obtain rfl : k = n := by have := HL.out; omega
      have ki : ¬ (k : Int) < (k : Int) := by omega
      have hn2 : (k : Int) ≤ 200 := by omega
      have e : l.take k = l := List.take_of_length_le (by have := HL.out; omega)
      rw [e] at hown
      have HF : Hid (few7 l = few (l.map Opn.fld)) := Lib.hid (by rw [few7, decide_eq_true (by have := HL.out; omega), List.take_of_length_le (by have := HL.out; omega)]; rfl)
      have HFEW := Lib.hid (few_any A3 (l.map Opn.fld) k c3 wr (AtF.of_own hown) (by rw [List.length_map]; exact HL.out) (fun f hf => by
        rw [List.mem_map] at hf
        obtain ⟨q, hq, rfl⟩ := hf
        exact HO.out q hq))
      generalize few (l.map Opn.fld) = U at HFEW HF
      clear hown
      go_wp2_with fail
      with_reducible refine (HFEW.out).mono ?_
      rintro e w2 ⟨rfl, hb2⟩
      have hbZ := hbw.trans (hb2.mono hbw.size)
      go_wp2
      go_ret
      rw [HF.out]
      exact ⟨rfl, hbZ⟩
end Go.Proofs.Ytjohchedckmadaa
