/- Contracts of the reference's Size and Total. -/
import Derived.Test.YtiandidencnlcaaDoorLPost
import Derived.Great.BuildSlice
namespace Go.Proofs.YtiandidencnlcaaDoor
open Go.RowKit

def fv (f : Fld) : Value := .agg #[.string f.name, .string f.value, .bool f.never]
def fsize (f : Fld) : Nat := f.name.size + f.value.size + 32
/-- A field that is not too great to be counted. -/
def Fld.ok (f : Fld) : Prop := f.name.size ≤ 140737488355328 ∧ f.value.size ≤ 140737488355328
set_option maxRecDepth 100000 in
theorem rsize_any (f : Fld) (w : World) (hf : f.ok) : Calls Tryd.prog 75 #[.agg #[.string f.name, .string f.value, .bool f.never]] w (NumPost w (fsize f)) := by
  obtain ⟨nm, vl, nv⟩ := f
  obtain ⟨h1, h2⟩ := hf
  simp only [] at h1 h2
  unfold fsize
  simp only []
  go_enter Tryd.func75, Tryd.ntmps75
  go_wp2
  go_ret
  exact ⟨rfl, (Below.refl _ _).alloc (Nat.le_refl _) _⟩
def tot : List Fld → Nat
  | [] => 0
  | f :: r => fsize f + tot r
theorem tot_app (a b : List Fld) : tot (a ++ b) = tot a + tot b := by
  induction a with
  | nil => simp [tot]
  | cons x r ih => rw [List.cons_append, tot, tot, ih]; omega
theorem tot_next (l : List Fld) (k : Nat) (h : k < l.length) : tot (l.take (k + 1)) = tot (l.take k) + fsize l[k] := by
  rw [List.take_succ_eq_append_getElem h, tot_app]
  simp [tot]
theorem tot_le (l : List Fld) (k : Nat) : tot (l.take k) ≤ tot l := by
  have := tot_app (l.take k) (l.drop k)
  rw [List.take_append_drop] at this
  omega
theorem fsize_le {l : List Fld} {f : Fld} (h : f ∈ l) : fsize f ≤ tot l := by
  induction l with
  | nil => simp at h
  | cons x r ih =>
    rw [List.mem_cons] at h
    rw [tot]
    rcases h with rfl | h
    · omega
    · have := ih h; omega
theorem ok_of {l : List Fld} {f : Fld} (h : f ∈ l) (ht : tot l ≤ 1000000) : f.ok := by
  have := fsize_le h
  unfold fsize at this
  exact ⟨by omega, by omega⟩
def TtR (w : World) (l : List Fld) (s i : Value) (wr : World) : Prop := ∃ k : Nat, k ≤ l.length ∧ i = .int .i64 (k : Int) ∧ s = .int .i64 ((tot (l.take k) : Nat) : Int) ∧ Below w.heap.size w wr
set_option maxRecDepth 100000 in
set_option maxHeartbeats 2000000 in
theorem rtotal_any (A : Option Addr) (l : List Fld) (n c : Nat) (w : World) (hA : AtF w w.heap.size A l) (hl : l.length = n) (ht : tot l ≤ 1000000) : Calls Tryd.prog 63 #[.slice A n c] w (NumPost w (tot l)) := by
  have HA := Lib.hid hA
  have HL := Lib.hid hl
  have HT := Lib.hid ht
  have hn : n ≤ 1000000 := by
    have : ∀ l : List Fld, l.length ≤ tot l := fun l => by
      induction l with
      | nil => simp
      | cons x r ih => rw [tot, List.length_cons]; unfold fsize; omega
    have := this l
    omega
  clear hA hl ht
  go_enter Tryd.func63, Tryd.ntmps63
  go_wp2
  go_loopw [3, 4] (fun s i wr => TtR w l s i wr) (fun _ i _ => n - (intOf i).toNat)
  case atStart => exact ⟨0, Nat.zero_le _, rfl, rfl, Below.refl _ _⟩
  case round =>
    obtain ⟨k, hk, rfl, rfl, hbw⟩ := hrel
    by_cases hlt : k < n
    · have hkl : k < l.length := by have := HL.out; omega
      obtain ⟨b, o, rfl, hb, hc⟩ := HA.out.pos (by omega)
      obtain ⟨f, hf⟩ : ∃ f, f = l[k] := ⟨_, rfl⟩
      obtain ⟨c0, c1, c2⟩ := hc k hkl
      rw [← hf] at c0 c1 c2
      have d0 : wr.cell? ⟨b, o + k * 3, none⟩ = some (.string f.name) := (hbw.cell (p := ⟨b, o + k * 3, none⟩) hb).trans c0
      have d1 : wr.cell? ⟨b, o + k * 3 + 1, none⟩ = some (.string f.value) := (hbw.cell (p := ⟨b, o + k * 3 + 1, none⟩) hb).trans c1
      have d2 : wr.cell? ⟨b, o + k * 3 + 2, none⟩ = some (.bool f.never) := (hbw.cell (p := ⟨b, o + k * 3 + 2, none⟩) hb).trans c2
      have HNX : Hid (tot (l.take (k + 1)) = tot (l.take k) + fsize f) := Lib.hid (by rw [tot_next l k hkl, hf])
      have HOK : Hid f.ok := Lib.hid (ok_of (by rw [hf]; exact List.getElem_mem _) HT.out)
      have hle := tot_le l (k + 1)
      rw [HNX.out] at hle
      have hle2 : tot (l.take k) + fsize f ≤ 1000000 := by have := HT.out; omega
      generalize tot (l.take k) = s at hle2 HNX
      generalize hfs : fsize f = y at hle2 HNX
      have HFS := Lib.hid hfs
      have ki : (k : Int) < (n : Int) := by omega
      clear hc hkl hf c0 c1 c2 hle hfs
      go_wp2_with fail
      with_reducible refine (rsize_any f wr HOK.out).mono ?_
      rw [HFS.out]
      rintro e w2 ⟨rfl, hb2⟩
      have hb3 := hbw.trans (hb2.mono hbw.size)
      clear d0 d1 d2 hb2 hbw
      go_wp2
      go_roundw
      case rel => exact ⟨k + 1, by have := HL.out; omega, by go_num, by rw [HNX.out]; go_num, hb3⟩
      case measure => simp [intOf]; omega
    · obtain rfl : k = n := by have := HL.out; omega
      have e : l.take k = l := List.take_of_length_le (by have := HL.out; omega)
      rw [e]
      go_wp2
      go_ret
      exact ⟨rfl, hbw⟩
end Go.Proofs.YtiandidencnlcaaDoor
/- The static table of RFC 7541 (appendix A), names and values in turn, as bytes; what is found in it. -/
namespace St

def tab : List ByteArray := [
  ⟨#[58, 97, 117, 116, 104, 111, 114, 105, 116, 121]⟩, ⟨#[]⟩,
  ⟨#[58, 109, 101, 116, 104, 111, 100]⟩, ⟨#[71, 69, 84]⟩,
  ⟨#[58, 109, 101, 116, 104, 111, 100]⟩, ⟨#[80, 79, 83, 84]⟩,
  ⟨#[58, 112, 97, 116, 104]⟩, ⟨#[47]⟩,
  ⟨#[58, 112, 97, 116, 104]⟩, ⟨#[47, 105, 110, 100, 101, 120, 46, 104, 116, 109, 108]⟩,
  ⟨#[58, 115, 99, 104, 101, 109, 101]⟩, ⟨#[104, 116, 116, 112]⟩,
  ⟨#[58, 115, 99, 104, 101, 109, 101]⟩, ⟨#[104, 116, 116, 112, 115]⟩,
  ⟨#[58, 115, 116, 97, 116, 117, 115]⟩, ⟨#[50, 48, 48]⟩,
  ⟨#[58, 115, 116, 97, 116, 117, 115]⟩, ⟨#[50, 48, 52]⟩,
  ⟨#[58, 115, 116, 97, 116, 117, 115]⟩, ⟨#[50, 48, 54]⟩,
  ⟨#[58, 115, 116, 97, 116, 117, 115]⟩, ⟨#[51, 48, 52]⟩,
  ⟨#[58, 115, 116, 97, 116, 117, 115]⟩, ⟨#[52, 48, 48]⟩,
  ⟨#[58, 115, 116, 97, 116, 117, 115]⟩, ⟨#[52, 48, 52]⟩,
  ⟨#[58, 115, 116, 97, 116, 117, 115]⟩, ⟨#[53, 48, 48]⟩,
  ⟨#[97, 99, 99, 101, 112, 116, 45, 99, 104, 97, 114, 115, 101, 116]⟩, ⟨#[]⟩,
  ⟨#[97, 99, 99, 101, 112, 116, 45, 101, 110, 99, 111, 100, 105, 110, 103]⟩, ⟨#[103, 122, 105, 112, 44, 32, 100, 101, 102, 108, 97, 116, 101]⟩,
  ⟨#[97, 99, 99, 101, 112, 116, 45, 108, 97, 110, 103, 117, 97, 103, 101]⟩, ⟨#[]⟩,
  ⟨#[97, 99, 99, 101, 112, 116, 45, 114, 97, 110, 103, 101, 115]⟩, ⟨#[]⟩,
  ⟨#[97, 99, 99, 101, 112, 116]⟩, ⟨#[]⟩,
  ⟨#[97, 99, 99, 101, 115, 115, 45, 99, 111, 110, 116, 114, 111, 108, 45, 97, 108, 108, 111, 119, 45, 111, 114, 105, 103, 105, 110]⟩, ⟨#[]⟩,
  ⟨#[97, 103, 101]⟩, ⟨#[]⟩,
  ⟨#[97, 108, 108, 111, 119]⟩, ⟨#[]⟩,
  ⟨#[97, 117, 116, 104, 111, 114, 105, 122, 97, 116, 105, 111, 110]⟩, ⟨#[]⟩,
  ⟨#[99, 97, 99, 104, 101, 45, 99, 111, 110, 116, 114, 111, 108]⟩, ⟨#[]⟩,
  ⟨#[99, 111, 110, 116, 101, 110, 116, 45, 100, 105, 115, 112, 111, 115, 105, 116, 105, 111, 110]⟩, ⟨#[]⟩,
  ⟨#[99, 111, 110, 116, 101, 110, 116, 45, 101, 110, 99, 111, 100, 105, 110, 103]⟩, ⟨#[]⟩,
  ⟨#[99, 111, 110, 116, 101, 110, 116, 45, 108, 97, 110, 103, 117, 97, 103, 101]⟩, ⟨#[]⟩,
  ⟨#[99, 111, 110, 116, 101, 110, 116, 45, 108, 101, 110, 103, 116, 104]⟩, ⟨#[]⟩,
  ⟨#[99, 111, 110, 116, 101, 110, 116, 45, 108, 111, 99, 97, 116, 105, 111, 110]⟩, ⟨#[]⟩,
  ⟨#[99, 111, 110, 116, 101, 110, 116, 45, 114, 97, 110, 103, 101]⟩, ⟨#[]⟩,
  ⟨#[99, 111, 110, 116, 101, 110, 116, 45, 116, 121, 112, 101]⟩, ⟨#[]⟩,
  ⟨#[99, 111, 111, 107, 105, 101]⟩, ⟨#[]⟩,
  ⟨#[100, 97, 116, 101]⟩, ⟨#[]⟩,
  ⟨#[101, 116, 97, 103]⟩, ⟨#[]⟩,
  ⟨#[101, 120, 112, 101, 99, 116]⟩, ⟨#[]⟩,
  ⟨#[101, 120, 112, 105, 114, 101, 115]⟩, ⟨#[]⟩,
  ⟨#[102, 114, 111, 109]⟩, ⟨#[]⟩,
  ⟨#[104, 111, 115, 116]⟩, ⟨#[]⟩,
  ⟨#[105, 102, 45, 109, 97, 116, 99, 104]⟩, ⟨#[]⟩,
  ⟨#[105, 102, 45, 109, 111, 100, 105, 102, 105, 101, 100, 45, 115, 105, 110, 99, 101]⟩, ⟨#[]⟩,
  ⟨#[105, 102, 45, 110, 111, 110, 101, 45, 109, 97, 116, 99, 104]⟩, ⟨#[]⟩,
  ⟨#[105, 102, 45, 114, 97, 110, 103, 101]⟩, ⟨#[]⟩,
  ⟨#[105, 102, 45, 117, 110, 109, 111, 100, 105, 102, 105, 101, 100, 45, 115, 105, 110, 99, 101]⟩, ⟨#[]⟩,
  ⟨#[108, 97, 115, 116, 45, 109, 111, 100, 105, 102, 105, 101, 100]⟩, ⟨#[]⟩,
  ⟨#[108, 105, 110, 107]⟩, ⟨#[]⟩,
  ⟨#[108, 111, 99, 97, 116, 105, 111, 110]⟩, ⟨#[]⟩,
  ⟨#[109, 97, 120, 45, 102, 111, 114, 119, 97, 114, 100, 115]⟩, ⟨#[]⟩,
  ⟨#[112, 114, 111, 120, 121, 45, 97, 117, 116, 104, 101, 110, 116, 105, 99, 97, 116, 101]⟩, ⟨#[]⟩,
  ⟨#[112, 114, 111, 120, 121, 45, 97, 117, 116, 104, 111, 114, 105, 122, 97, 116, 105, 111, 110]⟩, ⟨#[]⟩,
  ⟨#[114, 97, 110, 103, 101]⟩, ⟨#[]⟩,
  ⟨#[114, 101, 102, 101, 114, 101, 114]⟩, ⟨#[]⟩,
  ⟨#[114, 101, 102, 114, 101, 115, 104]⟩, ⟨#[]⟩,
  ⟨#[114, 101, 116, 114, 121, 45, 97, 102, 116, 101, 114]⟩, ⟨#[]⟩,
  ⟨#[115, 101, 114, 118, 101, 114]⟩, ⟨#[]⟩,
  ⟨#[115, 101, 116, 45, 99, 111, 111, 107, 105, 101]⟩, ⟨#[]⟩,
  ⟨#[115, 116, 114, 105, 99, 116, 45, 116, 114, 97, 110, 115, 112, 111, 114, 116, 45, 115, 101, 99, 117, 114, 105, 116, 121]⟩, ⟨#[]⟩,
  ⟨#[116, 114, 97, 110, 115, 102, 101, 114, 45, 101, 110, 99, 111, 100, 105, 110, 103]⟩, ⟨#[]⟩,
  ⟨#[117, 115, 101, 114, 45, 97, 103, 101, 110, 116]⟩, ⟨#[]⟩,
  ⟨#[118, 97, 114, 121]⟩, ⟨#[]⟩,
  ⟨#[118, 105, 97]⟩, ⟨#[]⟩,
  ⟨#[119, 119, 119, 45, 97, 117, 116, 104, 101, 110, 116, 105, 99, 97, 116, 101]⟩, ⟨#[]⟩]
theorem tab_len : tab.length = 122 := by decide
/-- The name and the value at place i (from 0). -/
def nm (i : Nat) : ByteArray := tab.getD (2 * i) ⟨#[]⟩
def vl (i : Nat) : ByteArray := tab.getD (2 * i + 1) ⟨#[]⟩
/-- Found among the places from i on: both, the name. -/
def fnd (n v : List UInt8) : Nat → Nat → Nat × Nat
  | 0, _ => (0, 0)
  | f + 1, i => if (nm i).toList == n then (if (vl i).toList == v then (i + 1, i + 1) else ((fnd n v f (i + 1)).1, i + 1)) else fnd n v f (i + 1)
end St
/- Contract of the reference's known. -/
namespace Go.Proofs.YtiandidencnlcaaDoor
open Go.RowKit St

/-- Strings that lie at block g. -/
def AtS (w : World) (g : Nat) (l : List ByteArray) : Prop := g < w.heap.size ∧ ∀ i (h : i < l.length), w.cell? ⟨g, i, none⟩ = some (.string l[i])
theorem AtS.up {w w' : World} {g : Nat} {l : List ByteArray} (h : AtS w g l) (hb : Below w.heap.size w w') : AtS w' g l :=
  ⟨Nat.lt_of_lt_of_le h.1 hb.size, fun i hi => (hb.cell (p := ⟨g, i, none⟩) h.1).trans (h.2 i hi)⟩
theorem AtS.new (w : World) (l : List ByteArray) (T : TypeId) (fr : Nat × Nat) : AtS (w.alloc (.cells (l.map Value.string).toArray T fr)) w.heap.size l := by
  refine ⟨by simp, fun i hi => ?_⟩
  rw [cell_of_row _ w.heap.size i _ T fr (heap_alloc_new w _)]
  simp [hi]
/-- A slice literal of strings. -/
theorem wpList_buildStrs {ops : Array Oper} {rest : List Oper} {o : Oper} {a : Act} {w : World} {Q : Exit → Act → World → Prop} (hg : o.guard = none) (t e : TypeId) (len : Nat) (parts : Array (Nat × Operand)) (ho : o.op = .buildSlice t len parts)
    (ss : List ByteArray) (hu : Tryd.prog.underlying t = some (.slice e)) (hsz : (Tryd.prog.info? e).map (·.size) = some 1) (hz : ((Tryd.prog.info? e).bind (·.zero)).isSome = true) (hlen : len = ss.length) (hpos : 0 < len) (hsmall : len ≤ 2 ^ 24)
    (hparts : parts.toList = (ss.zipIdx 0).map fun x => (x.2, Operand.const (Value.string x.1)))
    (h : wpList Tryd.prog ops Q rest (a.put o.dst (.slice (some ⟨w.heap.size, 0, none⟩) len len)) (w.alloc (.cells (ss.map Value.string).toArray e))) : wpList Tryd.prog ops Q (o :: rest) a w := by
  cases hie : Tryd.prog.info? e with
  | none => simp [hie] at hsz
  | some ie =>
    simp only [hie, Option.map_some, Option.some.injEq, Option.bind_some] at hsz hz
    obtain ⟨z, hzz⟩ := Option.isSome_iff_exists.1 hz
    refine wpList_buildSlice hg t e len parts ho _ ie z hu hie hzz (by rw [hsz]; omega) (by rw [hsz]; omega) ?_ h
    have hp : (parts.map fun (i, x) => (i, a.eval x)).toList = ((ss.map Value.string).zipIdx 0).map fun x => (x.2, x.1) := by
      rw [Array.toList_map, hparts, List.zipIdx_map, List.map_map, List.map_map]
      rfl
    rw [hp, hsz]
    exact Great.fill_flat _ _ (fun v hv => by obtain ⟨n, _, rfl⟩ := List.mem_map.1 hv; rfl) (by simp [hlen])
def KnPost (w : World) (e : Ending) (w' : World) : Prop := ∃ g, e = .returned (.slice (some ⟨g, 0, none⟩) 122 122) ∧ AtS w' g tab ∧ Below w.heap.size w w'
set_option maxRecDepth 100000 in
set_option maxHeartbeats 4000000 in
theorem rknown_any (w : World) : Calls Tryd.prog 69 #[] w (KnPost w) := by
  go_enter Tryd.func69, Tryd.ntmps69
  go_wp2_with (first | (refine wpList_buildStrs rfl 97 9 122 _ rfl tab (by kernel_rfl) (by kernel_rfl) (by kernel_rfl) (by kernel_rfl) (by decide) (by decide) (by kernel_rfl) ?_))
  go_ret
  exact ⟨w.heap.size, rfl, AtS.new w tab 9 (0, 0), (Below.refl _ _).alloc (Nat.le_refl _) _⟩
end Go.Proofs.YtiandidencnlcaaDoor
/- The static table's field at an index; where the table's strings lie. -/
namespace Go.Proofs.YtiandidencnlcaaDoor
open Go.RowKit St

/-- What stands at place i of the table (from 1). -/
def stg (i : Int) : Fld × Bool := if 1 ≤ i ∧ i ≤ 61 then (⟨nm (i.toNat - 1), vl (i.toNat - 1), false⟩, true) else (⟨⟨#[]⟩, ⟨#[]⟩, false⟩, false)
def StPost (w : World) (s : Fld × Bool) (e : Ending) (w' : World) : Prop := e = .returned (.tuple #[.agg #[.string s.1.name, .string s.1.value, .bool s.1.never], .bool s.2]) ∧ Below w.heap.size w w'
theorem tab_at {w : World} {g : Nat} (h : AtS w g tab) (i : Nat) (hi : i < 61) : w.cell? ⟨g, 2 * i, none⟩ = some (.string (nm i)) ∧ w.cell? ⟨g, 2 * i + 1, none⟩ = some (.string (vl i)) := by
  have h0 := h.2 (2 * i) (by rw [tab_len]; omega)
  have h1 := h.2 (2 * i + 1) (by rw [tab_len]; omega)
  rw [h0, h1, nm, vl, List.getD, List.getD, List.getElem?_eq_getElem (by rw [tab_len]; omega), List.getElem?_eq_getElem (by rw [tab_len]; omega)]
  exact ⟨rfl, rfl⟩
end Go.Proofs.YtiandidencnlcaaDoor
/- The table of chapter 7 over plain values: what goes in, what is driven out, what is found. -/
namespace Go.Proofs.YtiandidencnlcaaDoor
open Go.RowKit

/-- As many from the beginning on as there is room for. -/
def fitL : Nat → List Fld → List Fld
  | _, [] => []
  | m, f :: r => if fsize f ≤ m then f :: fitL (m - fsize f) r else []
theorem fit_all : ∀ (m : Nat) (l : List Fld), tot l ≤ m → fitL m l = l
  | _, [], _ => rfl
  | m, f :: r, h => by
    rw [tot] at h
    rw [fitL, if_pos (by omega), fit_all (m - fsize f) r (by omega)]
theorem fit_less : ∀ (m : Nat) (l : List Fld), m < tot l → fitL m l = fitL m l.dropLast
  | _, [], h => by simp [tot] at h
  | m, [f], h => by
    simp [tot] at h
    rw [fitL, if_neg (by omega)]
    rfl
  | m, f :: g :: r, h => by
    rw [tot] at h
    have e1 : fitL m (f :: g :: r) = if fsize f ≤ m then f :: fitL (m - fsize f) (g :: r) else [] := rfl
    have e2 : fitL m (f :: (g :: r).dropLast) = if fsize f ≤ m then f :: fitL (m - fsize f) (g :: r).dropLast else [] := rfl
    rw [List.dropLast_cons_cons, e1, e2]
    split
    · rw [fit_less (m - fsize f) (g :: r) (by omega)]
    · rfl
theorem fit_tot : ∀ (m : Nat) (l : List Fld), tot (fitL m l) ≤ m
  | _, [] => by simp [fitL, tot]
  | m, f :: r => by
    rw [fitL]
    split
    · rw [tot]
      have := fit_tot (m - fsize f) r
      omega
    · simp [tot]
theorem fit_pre : ∀ (m : Nat) (l : List Fld), ∃ k, fitL m l = l.take k
  | _, [] => ⟨0, rfl⟩
  | m, f :: r => by
    rw [fitL]
    split
    · obtain ⟨k, hk⟩ := fit_pre (m - fsize f) r
      exact ⟨k + 1, by rw [hk]; rfl⟩
    · exact ⟨0, rfl⟩
theorem fit_len (m : Nat) (l : List Fld) : (fitL m l).length ≤ l.length := by
  obtain ⟨k, hk⟩ := fit_pre m l
  rw [hk, List.length_take]
  omega
/-- The field as it is kept. -/
def kept (f : Fld) : Fld := ⟨f.name, f.value, false⟩
theorem kept_size (f : Fld) : fsize (kept f) = fsize f := rfl
/-- The table with one field more. -/
def addL (m : Nat) (f : Fld) (l : List Fld) : List Fld := fitL m (kept f :: l)
/-- Found among the places from i on: both, the name (from 1; 0: none). -/
def fndL (n v : List UInt8) : List Fld → Nat → Nat × Nat
  | [], _ => (0, 0)
  | f :: r, i => if f.name.toList == n then (if f.value.toList == v then (i + 1, i + 1) else ((fndL n v r (i + 1)).1, i + 1)) else fndL n v r (i + 1)
theorem dropLast_take (l : List Fld) (j : Nat) (h : j + 1 ≤ l.length) : (l.take (j + 1)).dropLast = l.take j := by
  rw [List.dropLast_eq_take, List.length_take, List.take_take]
  congr 1
  omega
theorem tot_pos (l : List Fld) : 32 * l.length ≤ tot l := by
  induction l with
  | nil => simp
  | cons x r ih => rw [tot, List.length_cons]; unfold fsize; omega
end Go.Proofs.YtiandidencnlcaaDoor
/- The i-th field of a list, from 1 on; what a call that answers a field and a bool hands back. -/
namespace Go.Proofs.YtiandidencnlcaaDoor
open Go.RowKit
/-- The i-th, from 1 on. -/
def getL (l : List Fld) (i : Int) : Fld × Bool := if 1 ≤ i ∧ i ≤ (l.length : Int) then (l.getD (i.toNat - 1) ⟨⟨#[]⟩, ⟨#[]⟩, false⟩, true) else (⟨⟨#[]⟩, ⟨#[]⟩, false⟩, false)
def FPost (w : World) (s : Fld × Bool) (e : Ending) (w' : World) : Prop := e = .returned (.tuple #[.agg #[.string s.1.name, .string s.1.value, .bool s.1.never], .bool s.2]) ∧ Below w.heap.size w w'
end Go.Proofs.YtiandidencnlcaaDoor
