/- Contract of the document's Read, every kind. -/
import Derived.Test.YtelbldhnlmggiaaPtRead3
import Derived.Test.YtelbldhnlmggiaaPtRead4F
import Derived.Test.YtelbldhnlmggiaaPtRead9
import Derived.Test.YtelbldhnlmggiaaPtRead7
import Derived.Test.YtelbldhnlmggiaaPtRead8
import Derived.Test.YtelbldhnlmggiaaPtReadO
namespace Go.Proofs.Ytelbldhnlmggiaa
open Go.RowKit Fr

theorem rread_any (f : Frm) (A : Option Addr) (c : Nat) (w : World) (hA : At .u8 w w.heap.size A f.body) (hb : ∀ x ∈ f.body, x < 256) (hc : A = none → c = 0) (hcl : f.body.length ≤ c) (hn : f.body.length ≤ 100000) : Calls Try.prog 10 #[frm f A c] w (PtPost w (Fr.read f)) := by
  obtain ⟨k, F, S, l⟩ := f
  simp only [frm] at *
  by_cases h0 : k = 0
  · subst h0
    rw [show Fr.read (⟨0, F, S, l⟩ : Frm) = padded ⟨0, F, S, l⟩ by simp [Fr.read]]
    exact rread0 F S l A l.length c w hA hb rfl hc hcl hn
  by_cases h1 : k = 1
  · subst h1
    rw [show Fr.read (⟨1, F, S, l⟩ : Frm) = padded ⟨1, F, S, l⟩ by simp [Fr.read]]
    exact rread1 F S l A l.length c w hA hb rfl hc hcl hn
  by_cases h2 : k = 2
  · subst h2
    by_cases hs : S = 0
    · rw [show Fr.read (⟨2, F, S, l⟩ : Frm) = (noPrt, ⟨true, true, 1⟩) by simp [Fr.read, hs, wrong]]
      exact rread2_a F S l A l.length c w hs
    by_cases hm : l.length = 5
    · rw [show Fr.read (⟨2, F, S, l⟩ : Frm) = (noPrt, noFlt) by simp [Fr.read, hs, hm]]
      exact rread2_c F S l A l.length c w hs hm
    · rw [show Fr.read (⟨2, F, S, l⟩ : Frm) = (noPrt, ⟨true, false, 6⟩) by simp [Fr.read, hs, hm, wrong]]
      exact rread2_b F S l A l.length c w hs hm
  by_cases h3 : k = 3
  · subst h3
    by_cases hs : S = 0
    · rw [show Fr.read (⟨3, F, S, l⟩ : Frm) = (noPrt, ⟨true, true, 1⟩) by simp [Fr.read, hs, wrong]]
      exact rread3_a F S l A l.length c w hs
    by_cases hm : l.length = 4
    · rw [show Fr.read (⟨3, F, S, l⟩ : Frm) = (⟨[], 0, val l, 0, 0, [], false, false, false⟩, noFlt) by simp [Fr.read, hs, hm, noPrt]]
      exact rread3_c F S l A l.length c w hA hb rfl hs hm
    · rw [show Fr.read (⟨3, F, S, l⟩ : Frm) = (noPrt, ⟨true, true, 6⟩) by simp [Fr.read, hs, hm, wrong]]
      exact rread3_b F S l A l.length c w hs hm
  by_cases h4 : k = 4
  · subst h4
    by_cases hs : S = 0
    · cases hB : bit F 0 with
      | true =>
        by_cases hm : 0 < l.length
        · rw [show Fr.read (⟨4, F, S, l⟩ : Frm) = (noPrt, ⟨true, true, 6⟩) by simp [Fr.read, hs, hB, List.length_pos_iff.1 hm, wrong]]
          exact rread4_b F S l A l.length c w hs hB hm
        · have hl0 : l.length = 0 := by omega
          have hl1 : l = [] := List.eq_nil_of_length_eq_zero hl0
          rw [show Fr.read (⟨4, F, S, l⟩ : Frm) = (⟨[], 0, 0, 0, 0, sixes l, false, true, false⟩, noFlt) by simp [Fr.read, hs, hB, hl1, noPrt]]
          exact rread4_t F S l A l.length c w 0 rfl (by omega) hs hB hl0
      | false =>
        by_cases hm : l.length % 6 = 0
        · rw [show Fr.read (⟨4, F, S, l⟩ : Frm) = (⟨[], 0, 0, 0, 0, sixes l, false, false, false⟩, noFlt) by simp [Fr.read, hs, hB, hm, noPrt]]
          exact rread4_f F S l A l.length c w (l.length / 6) hA hb rfl hcl hn (by omega) hs hB
        · rw [show Fr.read (⟨4, F, S, l⟩ : Frm) = (noPrt, ⟨true, true, 6⟩) by simp [Fr.read, hs, hB, hm, wrong]]
          exact rread4_c F S l A l.length c w hs hB hm
    · rw [show Fr.read (⟨4, F, S, l⟩ : Frm) = (noPrt, ⟨true, true, 1⟩) by simp [Fr.read, hs, wrong]]
      exact rread4_a F S l A l.length c w hs
  by_cases h5 : k = 5
  · subst h5
    rw [show Fr.read (⟨5, F, S, l⟩ : Frm) = (noPrt, ⟨true, true, 1⟩) by simp [Fr.read, wrong]]
    exact rread5 F S l A l.length c w
  by_cases h6 : k = 6
  · subst h6
    by_cases hs : S = 0
    · by_cases hm : l.length = 8
      · rw [show Fr.read (⟨6, F, S, l⟩ : Frm) = (⟨l, 0, 0, 0, 0, [], false, bit F 0, false⟩, noFlt) by simp [Fr.read, hs, hm, noPrt]]
        exact rread6_c F S l A l.length c w hA rfl hc hn hs hm
      · rw [show Fr.read (⟨6, F, S, l⟩ : Frm) = (noPrt, ⟨true, true, 6⟩) by simp [Fr.read, hs, hm, wrong]]
        exact rread6_b F S l A l.length c w hs hm
    · rw [show Fr.read (⟨6, F, S, l⟩ : Frm) = (noPrt, ⟨true, true, 1⟩) by simp [Fr.read, hs, wrong]]
      exact rread6_a F S l A l.length c w hs
  by_cases h7 : k = 7
  · subst h7
    by_cases hs : S = 0
    · by_cases hm : l.length < 8
      · rw [show Fr.read (⟨7, F, S, l⟩ : Frm) = (noPrt, ⟨true, true, 6⟩) by simp [Fr.read, hs, hm, wrong]]
        exact rread7_b F S l A l.length c w hs hm
      · rw [show Fr.read (⟨7, F, S, l⟩ : Frm) = (⟨[], 0, val ((l.drop 4).take 4), val (l.take 4) % 2147483648, 0, [], false, false, false⟩, noFlt) by simp [Fr.read, hs, hm, noPrt]]
        exact rread7_c F S l A l.length c w hA hb rfl hcl hs hm
    · rw [show Fr.read (⟨7, F, S, l⟩ : Frm) = (noPrt, ⟨true, true, 1⟩) by simp [Fr.read, hs, wrong]]
      exact rread7_a F S l A l.length c w hs
  by_cases h8 : k = 8
  · subst h8
    by_cases hm : l.length = 4
    · by_cases h0 : val l % 2147483648 = 0
      · by_cases hs : S = 0
        · rw [show Fr.read (⟨8, F, S, l⟩ : Frm) = (noPrt, ⟨true, true, 1⟩) by simp [Fr.read, hs, hm, h0, wrong]]
          exact rread8_b F S l A l.length c w hA hb rfl hs hm h0
        · rw [show Fr.read (⟨8, F, S, l⟩ : Frm) = (noPrt, ⟨true, false, 1⟩) by simp [Fr.read, hs, hm, h0, wrong]]
          exact rread8_c F S l A l.length c w hA hb rfl hs hm h0
      · rw [show Fr.read (⟨8, F, S, l⟩ : Frm) = (⟨[], 0, 0, 0, val l % 2147483648, [], false, false, false⟩, noFlt) by simp [Fr.read, hm, h0, noPrt]]
        exact rread8_d F S l A l.length c w hA hb rfl hm h0
    · rw [show Fr.read (⟨8, F, S, l⟩ : Frm) = (noPrt, ⟨true, true, 6⟩) by simp [Fr.read, hm, wrong]]
      exact rread8_a F S l A l.length c w hm
  by_cases h9 : k = 9
  · subst h9
    by_cases hs : S = 0
    · rw [show Fr.read (⟨9, F, S, l⟩ : Frm) = (noPrt, ⟨true, true, 1⟩) by simp [Fr.read, hs, wrong]]
      exact rread9_a F S l A l.length c w hs
    · rw [show Fr.read (⟨9, F, S, l⟩ : Frm) = (⟨l, 0, 0, 0, 0, [], false, false, bit F 2⟩, noFlt) by simp [Fr.read, hs, noPrt]]
      exact rread9_c F S l A l.length c w hA rfl hc hn hs
  · rw [show Fr.read (⟨k, F, S, l⟩ : Frm) = (noPrt, noFlt) by simp [Fr.read, h0, h1, h2, h3, h4, h5, h6, h7, h8, h9]]
    exact rread_o F S k l A l.length c w (by omega)
end Go.Proofs.Ytelbldhnlmggiaa
