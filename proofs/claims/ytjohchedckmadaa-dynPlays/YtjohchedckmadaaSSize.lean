/- Contracts of the reference's Size and Total. -/
import Derived.Test.YtjohchedckmadaaLFld
import Derived.Test.YtjohchedckmadaaLPost
namespace Go.Proofs.Ytjohchedckmadaa
open Go.RowKit

def fv (f : Fld) : Value := .agg #[.string f.name, .string f.value, .bool f.never]
def fsize (f : Fld) : Nat := f.name.size + f.value.size + 32
/-- A field that is not too great to be counted. -/
def Fld.ok (f : Fld) : Prop := f.name.size ≤ 140737488355328 ∧ f.value.size ≤ 140737488355328
set_option maxRecDepth 100000 in
theorem rsize_any (f : Fld) (w : World) (hf : f.ok) : Calls Try.prog 29 #[.agg #[.string f.name, .string f.value, .bool f.never]] w (NumPost w (fsize f)) := by
  obtain ⟨nm, vl, nv⟩ := f
  obtain ⟨h1, h2⟩ := hf
  simp only [] at h1 h2
  unfold fsize
  simp only []
  go_enter Try.func29, Try.ntmps29
  go_wp2
  go_ret
  exact ⟨rfl, (Below.refl _ _).alloc (Nat.le_refl _) _⟩
def tot : List Fld → Nat
  | [] => 0
  | f :: r => fsize f + tot r
theorem tot_app (a b : List Fld) : tot (a ++ b) = tot a + tot b := by
  induction a with
  | nil => simp [tot]
  | cons x r ih => rw [List.cons_append, tot, tot, ih]; omega
theorem tot_next (l : List Fld) (k : Nat) (h : k < l.length) : tot (l.take (k + 1)) = tot (l.take k) + fsize l[k] := by
  rw [List.take_succ_eq_append_getElem h, tot_app]
  simp [tot]
theorem tot_le (l : List Fld) (k : Nat) : tot (l.take k) ≤ tot l := by
  have := tot_app (l.take k) (l.drop k)
  rw [List.take_append_drop] at this
  omega
theorem fsize_le {l : List Fld} {f : Fld} (h : f ∈ l) : fsize f ≤ tot l := by
  induction l with
  | nil => simp at h
  | cons x r ih =>
    rw [List.mem_cons] at h
    rw [tot]
    rcases h with rfl | h
    · omega
    · have := ih h; omega
theorem ok_of {l : List Fld} {f : Fld} (h : f ∈ l) (ht : tot l ≤ 1000000) : f.ok := by
  have := fsize_le h
  unfold fsize at this
  exact ⟨by omega, by omega⟩
def TtR (w : World) (l : List Fld) (s i : Value) (wr : World) : Prop := ∃ k : Nat, k ≤ l.length ∧ i = .int .i64 (k : Int) ∧ s = .int .i64 ((tot (l.take k) : Nat) : Int) ∧ Below w.heap.size w wr
set_option maxRecDepth 100000 in
set_option maxHeartbeats 2000000 in
theorem rtotal_any (A : Option Addr) (l : List Fld) (n c : Nat) (w : World) (hA : AtF w w.heap.size A l) (hl : l.length = n) (ht : tot l ≤ 1000000) : Calls Try.prog 21 #[.slice A n c] w (NumPost w (tot l)) := by
  have HA := Lib.hid hA
  have HL := Lib.hid hl
  have HT := Lib.hid ht
  have hn : n ≤ 1000000 := by
    have : ∀ l : List Fld, l.length ≤ tot l := fun l => by
      induction l with
      | nil => simp
      | cons x r ih => rw [tot, List.length_cons]; unfold fsize; omega
    have := this l
    omega
  clear hA hl ht
  go_enter Try.func21, Try.ntmps21
  go_wp2
  go_loopw [3, 4] (fun s i wr => TtR w l s i wr) (fun _ i _ => n - (intOf i).toNat)
  case atStart => exact ⟨0, Nat.zero_le _, rfl, rfl, Below.refl _ _⟩
  case round =>
    obtain ⟨k, hk, rfl, rfl, hbw⟩ := hrel
    by_cases hlt : k < n
    · have hkl : k < l.length := by have := HL.out; omega
      obtain ⟨b, o, rfl, hb, hc⟩ := HA.out.pos (by omega)
      obtain ⟨f, hf⟩ : ∃ f, f = l[k] := ⟨_, rfl⟩
      obtain ⟨c0, c1, c2⟩ := hc k hkl
      rw [← hf] at c0 c1 c2
      have d0 : wr.cell? ⟨b, o + k * 3, none⟩ = some (.string f.name) := (hbw.cell (p := ⟨b, o + k * 3, none⟩) hb).trans c0
      have d1 : wr.cell? ⟨b, o + k * 3 + 1, none⟩ = some (.string f.value) := (hbw.cell (p := ⟨b, o + k * 3 + 1, none⟩) hb).trans c1
      have d2 : wr.cell? ⟨b, o + k * 3 + 2, none⟩ = some (.bool f.never) := (hbw.cell (p := ⟨b, o + k * 3 + 2, none⟩) hb).trans c2
      have HNX : Hid (tot (l.take (k + 1)) = tot (l.take k) + fsize f) := Lib.hid (by rw [tot_next l k hkl, hf])
      have HOK : Hid f.ok := Lib.hid (ok_of (by rw [hf]; exact List.getElem_mem _) HT.out)
      have hle := tot_le l (k + 1)
      rw [HNX.out] at hle
      have hle2 : tot (l.take k) + fsize f ≤ 1000000 := by have := HT.out; omega
      generalize tot (l.take k) = s at hle2 HNX
      generalize hfs : fsize f = y at hle2 HNX
      have HFS := Lib.hid hfs
      have ki : (k : Int) < (n : Int) := by omega
      clear hc hkl hf c0 c1 c2 hle hfs
      go_wp2_with fail
      with_reducible refine (rsize_any f wr HOK.out).mono ?_
      rw [HFS.out]
      rintro e w2 ⟨rfl, hb2⟩
      have hb3 := hbw.trans (hb2.mono hbw.size)
      clear d0 d1 d2 hb2 hbw
      go_wp2
      go_roundw
      case rel => exact ⟨k + 1, by have := HL.out; omega, by go_num, by rw [HNX.out]; go_num, hb3⟩
      case measure => simp [intOf]; omega
    · obtain rfl : k = n := by have := HL.out; omega
      have e : l.take k = l := List.take_of_length_le (by have := HL.out; omega)
      rw [e]
      go_wp2
      go_ret
      exact ⟨rfl, hbw⟩
end Go.Proofs.Ytjohchedckmadaa
