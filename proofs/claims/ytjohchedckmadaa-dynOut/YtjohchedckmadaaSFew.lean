/- Contract of the statements' Few. -/
import Derived.Test.YtjohchedckmadaaSSize
namespace Go.Proofs.Ytjohchedckmadaa
open Go.RowKit

def cnt1 (f : Fld) : Nat := min f.name.size 40001 + min f.value.size 40001
def cnt : List Fld → Nat
  | [] => 0
  | f :: r => cnt1 f + cnt r
theorem cnt_app (a b : List Fld) : cnt (a ++ b) = cnt a + cnt b := by
  induction a with
  | nil => simp [cnt]
  | cons x r ih => rw [List.cons_append, cnt, cnt, ih]; omega
theorem cnt_next (l : List Fld) (k : Nat) (h : k < l.length) : cnt (l.take (k + 1)) = cnt (l.take k) + cnt1 l[k] := by
  rw [List.take_succ_eq_append_getElem h, cnt_app]
  simp [cnt]
theorem cnt_le : ∀ l : List Fld, cnt l ≤ 80002 * l.length
  | [] => by simp [cnt]
  | f :: r => by
    have := cnt_le r
    have h1 : cnt1 f ≤ 80002 := by unfold cnt1; omega
    rw [cnt, List.length_cons]
    omega
def few (l : List Fld) : Bool := decide (l.length ≤ 200) && decide (cnt (l.take 200) ≤ 40000)
theorem cnt_tot : ∀ l : List Fld, cnt l ≤ 40000 → tot l = cnt l + 32 * l.length
  | [], _ => rfl
  | f :: r, h => by
    rw [cnt] at h
    have := cnt_tot r (by omega)
    rw [tot, cnt, this, List.length_cons]
    unfold cnt1 at h ⊢
    unfold fsize
    omega
theorem few_tot {l : List Fld} (h : few l = true) : l.length ≤ 200 ∧ tot l ≤ 46400 := by
  rw [few, Bool.and_eq_true, decide_eq_true_eq, decide_eq_true_eq] at h
  rw [List.take_of_length_le h.1] at h
  have := cnt_tot l h.2
  omega
/-- A field that a string may bear. -/
def Fld.fit (f : Fld) : Prop := f.name.size ≤ 9223372036854775807 ∧ f.value.size ≤ 9223372036854775807
theorem Fld.ok.fit {f : Fld} (h : f.ok) : f.fit := ⟨Nat.le_trans h.1 (by decide), Nat.le_trans h.2 (by decide)⟩
def FwR (w : World) (l : List Fld) (s i : Value) (wr : World) : Prop := ∃ k : Nat, k ≤ l.length ∧ k ≤ 200 ∧ i = .int .i64 (k : Int) ∧ s = .int .i64 ((cnt (l.take k) : Nat) : Int) ∧ Below w.heap.size w wr
set_option maxRecDepth 100000 in
set_option maxHeartbeats 4000000 in
theorem few_any (A : Option Addr) (l : List Fld) (n c : Nat) (w : World) (hA : AtF w w.heap.size A l) (hl : l.length = n) (hok : ∀ f ∈ l, f.fit) : Calls Try.prog 23 #[.slice A n c] w (BoolPost w (few l)) := by
  have HA := Lib.hid hA
  have HL := Lib.hid hl
  have HO := Lib.hid hok
  clear hA hl hok
  go_enter Try.func23, Try.ntmps23
  go_wp2
  go_loopw [3, 4] (fun s i wr => FwR w l s i wr) (fun _ i _ => n - (intOf i).toNat)
  case atStart => exact ⟨0, Nat.zero_le _, by omega, rfl, rfl, Below.refl _ _⟩
  case round =>
    obtain ⟨k, hk, hk2, rfl, rfl, hbw⟩ := hrel
    by_cases hlt : k < n
    · have ki : decide ((k : Int) < (n : Int)) = true := decide_eq_true (by omega)
      by_cases h200 : k < 200
      · have ki2 : decide ((k : Int) < 200) = true := decide_eq_true (by omega)
        have hkl : k < l.length := by have := HL.out; omega
        obtain ⟨b, o, rfl, hb, hc⟩ := HA.out.pos (by omega)
        obtain ⟨f, hf⟩ : ∃ f, f = l[k] := ⟨_, rfl⟩
        obtain ⟨c0, c1, c2⟩ := hc k hkl
        rw [← hf] at c0 c1 c2
        have d0 : wr.cell? ⟨b, o + k * 3, none⟩ = some (.string f.name) := (hbw.cell (p := ⟨b, o + k * 3, none⟩) hb).trans c0
        have d1 : wr.cell? ⟨b, o + k * 3 + 1, none⟩ = some (.string f.value) := (hbw.cell (p := ⟨b, o + k * 3 + 1, none⟩) hb).trans c1
        have HNX : Hid (cnt (l.take (k + 1)) = cnt (l.take k) + cnt1 f) := Lib.hid (by rw [cnt_next l k hkl, hf])
        have hok : f.name.size ≤ 9223372036854775807 ∧ f.value.size ≤ 9223372036854775807 := HO.out f (by rw [hf]; exact List.getElem_mem _)
        have hle := cnt_le (l.take k)
        have hlk : (l.take k).length ≤ k := List.length_take_le _ _
        obtain ⟨f1, f2, f3⟩ := f
        obtain ⟨m1, hm1⟩ : ∃ m, m = min f1.size 40001 := ⟨_, rfl⟩
        obtain ⟨m2, hm2⟩ : ∃ m, m = min f2.size 40001 := ⟨_, rfl⟩
        have HNX2 : Hid (cnt (l.take (k + 1)) = cnt (l.take k) + (m1 + m2)) := Lib.hid (by rw [HNX.out, cnt1, hm1, hm2])
        have em1 : (if (40001 : Int) < (f1.size : Int) then (40001 : Int) else (f1.size : Int)) = (m1 : Int) := by rw [hm1]; split <;> omega
        have em2 : (if (40001 : Int) < (f2.size : Int) then (40001 : Int) else (f2.size : Int)) = (m2 : Int) := by rw [hm2]; split <;> omega
        have bm : m1 ≤ 40001 ∧ m2 ≤ 40001 := by omega
        have hbw2 := below_drewN hbw 1
        generalize cnt (l.take k) = s at hle HNX2
        have hs : s ≤ 20000000 := by omega
        have kx : (k : Int) < (n : Int) := by omega
        simp only [] at d0 d1
        clear hc hkl hf c0 c1 c2 HNX hm1 hm2
        go_wp2
        go_region
        go_wp2
        go_roundw
        case rel => exact ⟨k + 1, by have := HL.out; omega, by omega, by go_num, by rw [HNX2.out]; go_num, hbw2⟩
        case measure => simp [intOf]; omega
      · obtain rfl : k = 200 := by omega
        have kx : (200 : Int) < (n : Int) := by omega
        have hn2 : ¬ (n : Int) ≤ 200 := by omega
        have HF : Hid (few l = false) := Lib.hid (by rw [few, decide_eq_false (by have := HL.out; omega)]; rfl)
        go_wp2
        go_ret
        rw [HF.out]
        exact ⟨rfl, hbw⟩
    · obtain rfl : k = n := by have := HL.out; omega
      have e : l.take k = l := List.take_of_length_le (by have := HL.out; omega)
      rw [e]
      have HF : Hid (few l = decide (cnt l ≤ 40000)) := Lib.hid (by
        have h := HL.out
        rw [few, decide_eq_true (by omega), Bool.true_and, List.take_of_length_le (by omega)])
      have hc := cnt_le l
      have hl := HL.out
      have hk2' : (k : Int) ≤ 200 := by omega
      generalize cnt l = s at hc HF
      have hs : s ≤ 20000000 := by omega
      by_cases h4 : s ≤ 40000
      · have h4' : (s : Int) ≤ 40000 := by omega
        clear hl hc e
        go_wp2
        go_ret
        rw [HF.out, decide_eq_true h4]
        exact ⟨rfl, hbw⟩
      · have h4' : ¬ (s : Int) ≤ 40000 := by omega
        clear hl hc e
        go_wp2
        go_ret
        rw [HF.out, decide_eq_false h4]
        exact ⟨rfl, hbw⟩
end Go.Proofs.Ytjohchedckmadaa
