/- The reference's Total, of great lists too. -/
import Derived.Test.YtlnppbnbjeakhaaDoorSSize
namespace Go.Proofs.YtlnppbnbjeakhaaDoor
open Go.RowKit

theorem ok_big {l : List Fld} {f : Fld} (h : f ∈ l) (ht : tot l ≤ 1000000000) : f.ok := by
  have := fsize_le h
  unfold fsize at this
  exact ⟨by omega, by omega⟩
set_option maxRecDepth 100000 in
set_option maxHeartbeats 2000000 in
theorem rtotal_big (A : Option Addr) (l : List Fld) (n c : Nat) (w : World) (hA : AtF w w.heap.size A l) (hl : l.length = n) (ht : tot l ≤ 1000000000) : Calls Tryd.prog 19 #[.slice A n c] w (NumPost w (tot l)) := by
  have HA := Lib.hid hA
  have HL := Lib.hid hl
  have HT := Lib.hid ht
  have hn : n ≤ 1000000000 := by
    have : ∀ l : List Fld, l.length ≤ tot l := fun l => by
      induction l with
      | nil => simp
      | cons x r ih => rw [tot, List.length_cons]; unfold fsize; omega
    have := this l
    omega
  clear hA hl ht
  go_enter Tryd.func19, Tryd.ntmps19
  go_wp2
  go_loopw [3, 4] (fun s i wr => TtR w l s i wr) (fun _ i _ => n - (intOf i).toNat)
  case atStart => exact ⟨0, Nat.zero_le _, rfl, rfl, Below.refl _ _⟩
  case round =>
    obtain ⟨k, hk, rfl, rfl, hbw⟩ := hrel
    by_cases hlt : k < n
    · have hkl : k < l.length := by have := HL.out; omega
      obtain ⟨b, o, rfl, hb, hc⟩ := HA.out.pos (by omega)
      obtain ⟨f, hf⟩ : ∃ f, f = l[k] := ⟨_, rfl⟩
      obtain ⟨c0, c1, c2⟩ := hc k hkl
      rw [← hf] at c0 c1 c2
      have d0 : wr.cell? ⟨b, o + k * 3, none⟩ = some (.string f.name) := (hbw.cell (p := ⟨b, o + k * 3, none⟩) hb).trans c0
      have d1 : wr.cell? ⟨b, o + k * 3 + 1, none⟩ = some (.string f.value) := (hbw.cell (p := ⟨b, o + k * 3 + 1, none⟩) hb).trans c1
      have d2 : wr.cell? ⟨b, o + k * 3 + 2, none⟩ = some (.bool f.never) := (hbw.cell (p := ⟨b, o + k * 3 + 2, none⟩) hb).trans c2
      have HNX : Hid (tot (l.take (k + 1)) = tot (l.take k) + fsize f) := Lib.hid (by rw [tot_next l k hkl, hf])
      have HOK : Hid f.ok := Lib.hid (ok_big (by rw [hf]; exact List.getElem_mem _) HT.out)
      have hle := tot_le l (k + 1)
      rw [HNX.out] at hle
      have hle2 : tot (l.take k) + fsize f ≤ 1000000000 := by have := HT.out; omega
      generalize tot (l.take k) = s at hle2 HNX
      generalize hfs : fsize f = y at hle2 HNX
      have HFS := Lib.hid hfs
      have ki : (k : Int) < (n : Int) := by omega
      clear hc hkl hf c0 c1 c2 hle hfs
      go_wp2_with fail
      with_reducible refine (rsize_any f wr HOK.out).mono ?_
      rw [HFS.out]
      rintro e w2 ⟨rfl, hb2⟩
      have hb3 := hbw.trans (hb2.mono hbw.size)
      clear d0 d1 d2 hb2 hbw
      go_wp2
      go_roundw
      case rel => exact ⟨k + 1, by have := HL.out; omega, by go_num, by rw [HNX.out]; go_num, hb3⟩
      case measure => simp [intOf]; omega
    · obtain rfl : k = n := by have := HL.out; omega
      have e : l.take k = l := List.take_of_length_le (by have := HL.out; omega)
      rw [e]
      go_wp2
      go_ret
      exact ⟨rfl, hbw⟩
end Go.Proofs.YtlnppbnbjeakhaaDoor
