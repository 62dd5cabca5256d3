/- Words for memory: lists of fields (name, value, never) that lie somewhere; an argument that is such a list. From stage 6 on. -/
import Derived.Test.YtlnppbnbjeakhaaDoorRows
import Derived.Deep.Strs
import Derived.Deep.Slices
import Derived.ProofKit
import Derived.OpenShut
import Derived.ShutString
import Derived.ChangeOld
import Derived.Below
import Derived.WalkKit
import Derived.WalkSpells
import Derived.IntWalk
import Derived.RegionTactic
import Derived.Deep.QuietTactic
import Derived.BigQuiet
import Derived.Lib.Hide
namespace Go.Proofs.YtlnppbnbjeakhaaDoor
open Go.ChangeShapes Go.WideShapes Go.ChangeAt Go.RowKit Go.Deep

/-- A field. -/
structure Fld where
  name : ByteArray
  value : ByteArray
  never : Bool
/-- The fields l lie at A, below block B, three cells each; where there is none, A is whatever. -/
def AtF (w : World) (B : Nat) (A : Option Addr) (l : List Fld) : Prop :=
  l ≠ [] → ∃ b o, A = some ⟨b, o, none⟩ ∧ b < B ∧ ∀ i (h : i < l.length), w.cell? ⟨b, o + i * 3, none⟩ = some (.string l[i].name) ∧ w.cell? ⟨b, o + i * 3 + 1, none⟩ = some (.string l[i].value) ∧ w.cell? ⟨b, o + i * 3 + 2, none⟩ = some (.bool l[i].never)
theorem atF_nil (w : World) (B : Nat) (A : Option Addr) : AtF w B A [] := fun h => absurd rfl h
theorem AtF.below {w w' : World} {B C : Nat} {A : Option Addr} {l : List Fld} (h : AtF w B A l) (hb : Below C w w') (hC : B ≤ C) : AtF w' B A l := fun hl => by
  obtain ⟨b, o, e, hB, hc⟩ := h hl
  refine ⟨b, o, e, hB, fun i hi => ?_⟩
  obtain ⟨h0, h1, h2⟩ := hc i hi
  exact ⟨(hb.cell (p := ⟨b, o + i * 3, none⟩) (by show b < C; omega)).trans h0, (hb.cell (p := ⟨b, o + i * 3 + 1, none⟩) (by show b < C; omega)).trans h1, (hb.cell (p := ⟨b, o + i * 3 + 2, none⟩) (by show b < C; omega)).trans h2⟩
theorem AtF.more {w : World} {B C : Nat} {A : Option Addr} {l : List Fld} (h : AtF w B A l) (hC : B ≤ C) : AtF w C A l := fun hl => by
  obtain ⟨b, o, e, hB, hc⟩ := h hl
  exact ⟨b, o, e, by omega, hc⟩
theorem AtF.up {w w' : World} {A : Option Addr} {l : List Fld} (h : AtF w w.heap.size A l) (hb : Below w.heap.size w w') : AtF w' w'.heap.size A l := (h.below hb (Nat.le_refl _)).more hb.size
theorem AtF.pos {w : World} {B : Nat} {A : Option Addr} {l : List Fld} (h : AtF w B A l) (hl : 0 < l.length) : ∃ b o, A = some ⟨b, o, none⟩ ∧ b < B ∧ ∀ i (h : i < l.length), w.cell? ⟨b, o + i * 3, none⟩ = some (.string l[i].name) ∧ w.cell? ⟨b, o + i * 3 + 1, none⟩ = some (.string l[i].value) ∧ w.cell? ⟨b, o + i * 3 + 2, none⟩ = some (.bool l[i].never) :=
  h (List.length_pos_iff.1 hl)
theorem below_drewN {B : Nat} {w w' : World} (h : Below B w w') (n : Nat) : Below B w (w'.drewN n) := ⟨h.os, h.tape, h.output, h.size, h.block⟩
theorem cellsFd : Tryd.prog.cellsOf 44 = 3 := by kernel_rfl
theorem cellsStr : Tryd.prog.cellsOf 9 = 1 := by kernel_rfl
theorem cellsBool : Tryd.prog.cellsOf 4 = 1 := by kernel_rfl
/-- One field's cells, out of its reading. -/
theorem fld_of {H : Type} {enc : TypeId × Value → H} {W : World} {base n : Nat} {sp : Nat → Bool} {held : Bool} {cs : List Value} {x : DataW H × List MemPlace}
    (h : DataW.trod enc Tryd.prog W base sp held n 44 cs = some x) : ∃ f : Fld, cs = [.string f.name, .string f.value, .bool f.never] ∧ f.name.size ≤ maxLen ∧ f.value.size ≤ maxLen := by
  obtain ⟨y0, y1, y2, m, _, hl, h0, h1, h2⟩ := trod_struct3 Tryd.underlying44 h
  rw [cellsFd] at hl
  simp only [cellsStr, cellsBool] at h0 h1 h2
  match cs, hl with
  | [c0, c1, c2], _ =>
    obtain ⟨s0, e0, _, b0⟩ := DataW.trod_string Tryd.underlying9 h0
    obtain ⟨s1, e1, _, b1⟩ := DataW.trod_string Tryd.underlying9 h1
    obtain ⟨v2, e2, _⟩ := DataW.trod_bool Tryd.underlying4 h2
    simp at e0 e1 e2
    subst e0 e1 e2
    exact ⟨⟨s0, s1, v2⟩, rfl, b0, b1⟩
/-- A list of fields that came in. -/
theorem openedF {H : Type} {enc : TypeId × Value → H} {W : World} {a : Option Addr} {len cap : Nat} {d : DataW H} {p : List MemPlace}
    (h : DataW.Trod enc Tryd.prog W 0 (fun _ => true) true 29 (.slice a len cap) d p) :
    ∃ l : List Fld, l.length = len ∧ len ≤ cap ∧ (a = none → cap = 0) ∧ (∀ f ∈ l, f.name.size ≤ maxLen ∧ f.value.size ≤ maxLen) ∧ AtF W W.heap.size a l := by
  obtain ⟨fuel, hf⟩ := h
  rcases open_slice Tryd.underlying29 hf with ⟨hcs, _⟩ | ⟨ad, len', cap', m, n, D, Pl, hcs, _, hl, hm, hmm, _, hi⟩
  · simp [Value.cells] at hcs
    obtain ⟨rfl, rfl, rfl⟩ := hcs
    exact ⟨[], rfl, Nat.le_refl _, fun _ => rfl, fun f hf => by simp at hf, atF_nil _ _ _⟩
  · simp [Value.cells] at hcs
    obtain ⟨rfl, rfl, rfl⟩ := hcs
    rw [cellsFd] at hi
    simp only [if_true] at hmm
    subst hmm
    have hF : ∀ i, i < m → ∃ f : Fld, (f.name.size ≤ maxLen ∧ f.value.size ≤ maxLen) ∧ W.cell? ((ad.add (i * 3)).add 0) = some (.string f.name) ∧ W.cell? ((ad.add (i * 3)).add 1) = some (.string f.value) ∧ W.cell? ((ad.add (i * 3)).add 2) = some (.bool f.never) := by
      intro i him
      obtain ⟨cs', hc, ht⟩ := hi i him
      obtain ⟨f, rfl, b0, b1⟩ := fld_of ht
      obtain ⟨_, _, hat⟩ := World.cells?_some hc
      exact ⟨f, ⟨b0, b1⟩, by simpa using hat 0 (by omega), by simpa using hat 1 (by omega), by simpa using hat 2 (by omega)⟩
    have hC : ∃ F : Nat → Fld, ∀ i, i < m → ((F i).name.size ≤ maxLen ∧ (F i).value.size ≤ maxLen) ∧ W.cell? ((ad.add (i * 3)).add 0) = some (.string (F i).name) ∧ W.cell? ((ad.add (i * 3)).add 1) = some (.string (F i).value) ∧ W.cell? ((ad.add (i * 3)).add 2) = some (.bool (F i).never) := by
      refine ⟨fun i => if h : i < m then Classical.choose (hF i h) else ⟨ByteArray.empty, ByteArray.empty, false⟩, fun i h => ?_⟩
      simp only [dif_pos h]
      exact Classical.choose_spec (hF i h)
    obtain ⟨F, hFs⟩ := hC
    refine ⟨(List.range len).map F, by simp, hl, (fun h => by cases h), fun f hf => ?_, fun hne => ?_⟩
    · simp only [List.mem_map, List.mem_range] at hf
      obtain ⟨i, hi1, rfl⟩ := hf
      exact (hFs i (by omega)).1
    · have hpos : 0 < len := by
        rcases Nat.eq_zero_or_pos len with h0 | h0
        · subst h0; simp at hne
        · exact h0
      obtain ⟨b, o, spot⟩ := ad
      have hspot : spot = none := by simpa [Addr.add] using World.cell?_spot (hFs 0 (by omega)).2.1
      subst hspot
      refine ⟨b, o, rfl, ?_, fun i hi1 => ?_⟩
      · have h0 := (hFs 0 (by omega)).2.1
        have := World.block_lt_of_cell? W _ h0
        simpa [Addr.add] using this
      · have hi2 : i < len := by simpa using hi1
        obtain ⟨_, h0, h1, h2⟩ := hFs i (by omega)
        simp only [Go.WideShapes.add_plain] at h0 h1 h2
        simp only [List.getElem_map, List.getElem_range]
        exact ⟨h0, h1, h2⟩
end Go.Proofs.YtlnppbnbjeakhaaDoor
/- What a call that answers one number, or one bool, hands back. -/
namespace Go.Proofs.YtlnppbnbjeakhaaDoor
open Go.RowKit

def NumPost (w : World) (n : Nat) (e : Ending) (w' : World) : Prop := e = .returned (.int .i64 (n : Int)) ∧ Below w.heap.size w w'
def BoolPost (w : World) (v : Bool) (e : Ending) (w' : World) : Prop := e = .returned (.bool v) ∧ Below w.heap.size w w'
end Go.Proofs.YtlnppbnbjeakhaaDoor
/- Contracts of the reference's Size and Total. -/
namespace Go.Proofs.YtlnppbnbjeakhaaDoor
open Go.RowKit

def fv (f : Fld) : Value := .agg #[.string f.name, .string f.value, .bool f.never]
def fsize (f : Fld) : Nat := f.name.size + f.value.size + 32
/-- A field that is not too great to be counted. -/
def Fld.ok (f : Fld) : Prop := f.name.size ≤ 140737488355328 ∧ f.value.size ≤ 140737488355328
set_option maxRecDepth 100000 in
theorem rsize_any (f : Fld) (w : World) (hf : f.ok) : Calls Tryd.prog 29 #[.agg #[.string f.name, .string f.value, .bool f.never]] w (NumPost w (fsize f)) := by
  obtain ⟨nm, vl, nv⟩ := f
  obtain ⟨h1, h2⟩ := hf
  simp only [] at h1 h2
  unfold fsize
  simp only []
  go_enter Tryd.func29, Tryd.ntmps29
  go_wp2
  go_ret
  exact ⟨rfl, (Below.refl _ _).alloc (Nat.le_refl _) _⟩
def tot : List Fld → Nat
  | [] => 0
  | f :: r => fsize f + tot r
theorem tot_app (a b : List Fld) : tot (a ++ b) = tot a + tot b := by
  induction a with
  | nil => simp [tot]
  | cons x r ih => rw [List.cons_append, tot, tot, ih]; omega
theorem tot_next (l : List Fld) (k : Nat) (h : k < l.length) : tot (l.take (k + 1)) = tot (l.take k) + fsize l[k] := by
  rw [List.take_succ_eq_append_getElem h, tot_app]
  simp [tot]
theorem tot_le (l : List Fld) (k : Nat) : tot (l.take k) ≤ tot l := by
  have := tot_app (l.take k) (l.drop k)
  rw [List.take_append_drop] at this
  omega
theorem fsize_le {l : List Fld} {f : Fld} (h : f ∈ l) : fsize f ≤ tot l := by
  induction l with
  | nil => simp at h
  | cons x r ih =>
    rw [List.mem_cons] at h
    rw [tot]
    rcases h with rfl | h
    · omega
    · have := ih h; omega
theorem ok_of {l : List Fld} {f : Fld} (h : f ∈ l) (ht : tot l ≤ 1000000) : f.ok := by
  have := fsize_le h
  unfold fsize at this
  exact ⟨by omega, by omega⟩
def TtR (w : World) (l : List Fld) (s i : Value) (wr : World) : Prop := ∃ k : Nat, k ≤ l.length ∧ i = .int .i64 (k : Int) ∧ s = .int .i64 ((tot (l.take k) : Nat) : Int) ∧ Below w.heap.size w wr
set_option maxRecDepth 100000 in
set_option maxHeartbeats 2000000 in
theorem rtotal_any (A : Option Addr) (l : List Fld) (n c : Nat) (w : World) (hA : AtF w w.heap.size A l) (hl : l.length = n) (ht : tot l ≤ 1000000) : Calls Tryd.prog 19 #[.slice A n c] w (NumPost w (tot l)) := by
  have HA := Lib.hid hA
  have HL := Lib.hid hl
  have HT := Lib.hid ht
  have hn : n ≤ 1000000 := by
    have : ∀ l : List Fld, l.length ≤ tot l := fun l => by
      induction l with
      | nil => simp
      | cons x r ih => rw [tot, List.length_cons]; unfold fsize; omega
    have := this l
    omega
  clear hA hl ht
  go_enter Tryd.func19, Tryd.ntmps19
  go_wp2
  go_loopw [3, 4] (fun s i wr => TtR w l s i wr) (fun _ i _ => n - (intOf i).toNat)
  case atStart => exact ⟨0, Nat.zero_le _, rfl, rfl, Below.refl _ _⟩
  case round =>
    obtain ⟨k, hk, rfl, rfl, hbw⟩ := hrel
    by_cases hlt : k < n
    · have hkl : k < l.length := by have := HL.out; omega
      obtain ⟨b, o, rfl, hb, hc⟩ := HA.out.pos (by omega)
      obtain ⟨f, hf⟩ : ∃ f, f = l[k] := ⟨_, rfl⟩
      obtain ⟨c0, c1, c2⟩ := hc k hkl
      rw [← hf] at c0 c1 c2
      have d0 : wr.cell? ⟨b, o + k * 3, none⟩ = some (.string f.name) := (hbw.cell (p := ⟨b, o + k * 3, none⟩) hb).trans c0
      have d1 : wr.cell? ⟨b, o + k * 3 + 1, none⟩ = some (.string f.value) := (hbw.cell (p := ⟨b, o + k * 3 + 1, none⟩) hb).trans c1
      have d2 : wr.cell? ⟨b, o + k * 3 + 2, none⟩ = some (.bool f.never) := (hbw.cell (p := ⟨b, o + k * 3 + 2, none⟩) hb).trans c2
      have HNX : Hid (tot (l.take (k + 1)) = tot (l.take k) + fsize f) := Lib.hid (by rw [tot_next l k hkl, hf])
      have HOK : Hid f.ok := Lib.hid (ok_of (by rw [hf]; exact List.getElem_mem _) HT.out)
      have hle := tot_le l (k + 1)
      rw [HNX.out] at hle
      have hle2 : tot (l.take k) + fsize f ≤ 1000000 := by have := HT.out; omega
      generalize tot (l.take k) = s at hle2 HNX
      generalize hfs : fsize f = y at hle2 HNX
      have HFS := Lib.hid hfs
      have ki : (k : Int) < (n : Int) := by omega
      clear hc hkl hf c0 c1 c2 hle hfs
      go_wp2_with fail
      with_reducible refine (rsize_any f wr HOK.out).mono ?_
      rw [HFS.out]
      rintro e w2 ⟨rfl, hb2⟩
      have hb3 := hbw.trans (hb2.mono hbw.size)
      clear d0 d1 d2 hb2 hbw
      go_wp2
      go_roundw
      case rel => exact ⟨k + 1, by have := HL.out; omega, by go_num, by rw [HNX.out]; go_num, hb3⟩
      case measure => simp [intOf]; omega
    · obtain rfl : k = n := by have := HL.out; omega
      have e : l.take k = l := List.take_of_length_le (by have := HL.out; omega)
      rw [e]
      go_wp2
      go_ret
      exact ⟨rfl, hbw⟩
end Go.Proofs.YtlnppbnbjeakhaaDoor
