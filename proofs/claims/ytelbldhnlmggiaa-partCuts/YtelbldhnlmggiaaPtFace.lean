/- The faces' contracts over the landed part: Read; the makers lie in PLMake, PLSett. -/
import Derived.Test.YtelbldhnlmggiaaPLRead
import Derived.Test.YtelbldhnlmggiaaPLCtt2
import Derived.Test.YtelbldhnlmggiaaPLUpd
import Derived.Test.YtelbldhnlmggiaaPLStm
import Derived.Test.YtelbldhnlmggiaaPLCon
import Derived.Test.YtelbldhnlmggiaaPLCon4
import Derived.Test.YtelbldhnlmggiaaPLSett
import Derived.Test.YtelbldhnlmggiaaLFrm
namespace Go.Proofs.Ytelbldhnlmggiaa
open Go.RowKit Fr

theorem pctt0_any (F S : Int) (l : List Nat) (A : Option Addr) (n c : Nat) (w : World) (hA : At .u8 w w.heap.size A l) (hb : ∀ x ∈ l, x < 256) (hl : l.length = n) (hc : A = none → c = 0) (hcl : n ≤ c) (hn : n ≤ 100000) :
    Calls Try.prog 17 #[.agg #[.int .i64 0, .int .i64 F, .int .i64 S, .slice A n c]] w (PtPost w (padded (⟨0, F, S, l⟩ : Frm))) := by
  by_cases hs : S = 0
  · rw [show padded (⟨0, F, S, l⟩ : Frm) = (noPrt, ⟨true, true, 1⟩) by simp [padded, hs, wrong]]
    exact pctt0_a F S l A n c w hs
  cases h3 : bit F 3 with
  | false =>
    rw [show padded (⟨0, F, S, l⟩ : Frm) = (⟨l, 0, 0, 0, 0, [], bit F 0, false, false⟩, noFlt) by simp [padded, prior, padIn, hs, h3]]
    exact pctt0_b F S l A n c w hs hA hl hc hcl hn h3
  | true =>
    cases hx : l with
    | nil =>
      rw [show padded (⟨0, F, S, []⟩ : Frm) = (noPrt, ⟨true, true, 6⟩) by simp [padded, hs, h3, wrong]]
      exact pctt0_c F S [] A n c w hs h3 (by rw [← hl, hx]; rfl)
    | cons x r =>
      rw [hx] at hA hb hl
      by_cases h7 : r.length < x
      · rw [show padded (⟨0, F, S, x :: r⟩ : Frm) = (noPrt, ⟨true, true, 1⟩) by simp [padded, prior, padIn, hs, h3, h7, wrong]]
        exact pctt0_d F S (x :: r) A n c w x r hs hA hb hl hc hcl hn h3 rfl h7
      · rw [show padded (⟨0, F, S, x :: r⟩ : Frm) = (⟨r.take (r.length - x), x + 1, 0, 0, 0, [], bit F 0, false, false⟩, noFlt) by simp [padded, prior, padIn, hs, h3, h7]]
        exact pctt0_e F S (x :: r) A n c w x r hs hA hb hl hc hcl hn h3 rfl (by omega)
theorem pctt1_any (F S : Int) (l : List Nat) (A : Option Addr) (n c : Nat) (w : World) (hA : At .u8 w w.heap.size A l) (hb : ∀ x ∈ l, x < 256) (hl : l.length = n) (hc : A = none → c = 0) (hcl : n ≤ c) (hn : n ≤ 100000) :
    Calls Try.prog 17 #[.agg #[.int .i64 1, .int .i64 F, .int .i64 S, .slice A n c]] w (PtPost w (padded (⟨1, F, S, l⟩ : Frm))) := by
  by_cases hs : S = 0
  · rw [show padded (⟨1, F, S, l⟩ : Frm) = (noPrt, ⟨true, true, 1⟩) by simp [padded, hs, wrong]]
    exact pctt1_a F S l A n c w hs
  cases h3 : bit F 3 with
  | false =>
    cases h5 : bit F 5 with
    | false =>
      rw [show padded (⟨1, F, S, l⟩ : Frm) = (⟨l, 0, 0, 0, 0, [], bit F 0, false, bit F 2⟩, noFlt) by simp [padded, prior, padIn, hs, h3, h5]]
      exact pctt1_b F S l A n c w hs hA hl hc hcl hn h3 h5
    | true =>
      by_cases h6 : n < 5
      · rw [show padded (⟨1, F, S, l⟩ : Frm) = (noPrt, ⟨true, true, 6⟩) by simp [padded, prior, hs, h3, h5, hl, h6, wrong]]
        exact pctt1_f F S l A n c w hs hA hl hc hcl hn h3 h5 h6
      · have h6' : ¬ n < 5 := h6
        rw [show padded (⟨1, F, S, l⟩ : Frm) = (⟨(l.drop 5), 0, 0, 0, 0, [], bit F 0, false, bit F 2⟩, noFlt) by simp [padded, prior, padIn, hs, h3, h5, h6, hl]; exact List.take_of_length_le (by rw [List.length_drop]; omega)]
        exact pctt1_g F S l A n c w hs hA hl hc hcl hn h3 h5 (by omega)
  | true =>
    cases hx : l with
    | nil =>
      rw [show padded (⟨1, F, S, []⟩ : Frm) = (noPrt, ⟨true, true, 6⟩) by simp [padded, hs, h3, wrong]]
      exact pctt1_c F S [] A n c w hs h3 (by rw [← hl, hx]; rfl)
    | cons x r =>
      rw [hx] at hA hb hl
      cases h5 : bit F 5 with
      | false =>
        by_cases h7 : r.length < x
        · rw [show padded (⟨1, F, S, x :: r⟩ : Frm) = (noPrt, ⟨true, true, 1⟩) by simp [padded, prior, padIn, hs, h3, h5, h7, wrong]]
          exact pctt1_d F S (x :: r) A n c w x r hs hA hb hl hc hcl hn h3 rfl h5 h7
        · rw [show padded (⟨1, F, S, x :: r⟩ : Frm) = (⟨r.take (r.length - x), x + 1, 0, 0, 0, [], bit F 0, false, bit F 2⟩, noFlt) by simp [padded, prior, padIn, hs, h3, h5, h7]]
          exact pctt1_e F S (x :: r) A n c w x r hs hA hb hl hc hcl hn h3 rfl h5 (by omega)
      | true =>
        by_cases h6 : r.length < 5
        · rw [show padded (⟨1, F, S, x :: r⟩ : Frm) = (noPrt, ⟨true, true, 6⟩) by simp [padded, prior, hs, h3, h5, h6, wrong]]
          exact pctt1_h F S (x :: r) A n c w x r hs hA hb hl hc hcl hn h3 rfl h5 h6
        · by_cases h7 : r.length - 5 < x
          · rw [show padded (⟨1, F, S, x :: r⟩ : Frm) = (noPrt, ⟨true, true, 1⟩) by simp [padded, prior, padIn, hs, h3, h5, h6, h7, wrong]]
            exact pctt1_i F S (x :: r) A n c w x r hs hA hb hl hc hcl hn h3 rfl h5 (by omega) h7
          · rw [show padded (⟨1, F, S, x :: r⟩ : Frm) = (⟨(r.drop 5).take ((r.drop 5).length - x), x + 1, 0, 0, 0, [], bit F 0, false, bit F 2⟩, noFlt) by simp [padded, prior, padIn, hs, h3, h5, h6, h7]]
            exact pctt1_j F S (x :: r) A n c w x r hs hA hb hl hc hcl hn h3 rfl h5 (by omega) (by omega)
theorem pread_any (f : Frm) (A : Option Addr) (c : Nat) (w : World) (hA : At .u8 w w.heap.size A f.body) (hb : ∀ x ∈ f.body, x < 256) (hc : A = none → c = 0) (hcl : f.body.length ≤ c) (hn : f.body.length ≤ 100000) : Calls Try.prog 9 #[frm f A c] w (PtPost w (Fr.read f)) := by
  obtain ⟨k, F, S, l⟩ := f
  simp only [frm] at *
  by_cases h0 : k = 0
  · subst h0
    rw [show Fr.read (⟨0, F, S, l⟩ : Frm) = padded ⟨0, F, S, l⟩ by simp [Fr.read]]
    exact pread_k0 F S l A l.length c w _ (fun W hW => pctt0_any F S l A l.length c W (hA.up hW) hb rfl hc hcl hn)
  by_cases h1 : k = 1
  · subst h1
    rw [show Fr.read (⟨1, F, S, l⟩ : Frm) = padded ⟨1, F, S, l⟩ by simp [Fr.read]]
    exact pread_k1 F S l A l.length c w _ (fun W hW => pctt1_any F S l A l.length c W (hA.up hW) hb rfl hc hcl hn)
  by_cases h2 : k = 2
  · subst h2
    by_cases hs : S = 0
    · rw [show Fr.read (⟨2, F, S, l⟩ : Frm) = (noPrt, ⟨true, true, 1⟩) by simp [Fr.read, hs, wrong]]
      exact pread_k2 F S l A l.length c w _ (fun W _ => pstm2_a F S l A l.length c W hs)
    by_cases hm : l.length = 5
    · rw [show Fr.read (⟨2, F, S, l⟩ : Frm) = (noPrt, noFlt) by simp [Fr.read, hs, hm]]
      exact pread_k2 F S l A l.length c w _ (fun W _ => pstm2_c F S l A l.length c W hs hm)
    · rw [show Fr.read (⟨2, F, S, l⟩ : Frm) = (noPrt, ⟨true, false, 6⟩) by simp [Fr.read, hs, hm, wrong]]
      exact pread_k2 F S l A l.length c w _ (fun W _ => pstm2_b F S l A l.length c W hs hm)
  by_cases h3 : k = 3
  · subst h3
    by_cases hs : S = 0
    · rw [show Fr.read (⟨3, F, S, l⟩ : Frm) = (noPrt, ⟨true, true, 1⟩) by simp [Fr.read, hs, wrong]]
      exact pread_k3 F S l A l.length c w _ (fun W _ => pstm3_a F S l A l.length c W hs)
    by_cases hm : l.length = 4
    · rw [show Fr.read (⟨3, F, S, l⟩ : Frm) = (⟨[], 0, val l, 0, 0, [], false, false, false⟩, noFlt) by simp [Fr.read, hs, hm, noPrt]]
      exact pread_k3 F S l A l.length c w _ (fun W hW => pstm3_c F S l A l.length c W hs hm (hA.up hW) hb rfl)
    · rw [show Fr.read (⟨3, F, S, l⟩ : Frm) = (noPrt, ⟨true, true, 6⟩) by simp [Fr.read, hs, hm, wrong]]
      exact pread_k3 F S l A l.length c w _ (fun W _ => pstm3_b F S l A l.length c W hs hm)
  by_cases h4 : k = 4
  · subst h4
    by_cases hs : S = 0
    · cases hB : bit F 0 with
      | true =>
        by_cases hm : 0 < l.length
        · rw [show Fr.read (⟨4, F, S, l⟩ : Frm) = (noPrt, ⟨true, true, 6⟩) by simp [Fr.read, hs, hB, List.length_pos_iff.1 hm, wrong]]
          exact pread_k4 F S l A l.length c w _ (fun W _ => pcon4_b F S l A l.length c W hs hB hm)
        · have hl0 : l.length = 0 := by omega
          have hl1 : l = [] := List.eq_nil_of_length_eq_zero hl0
          rw [show Fr.read (⟨4, F, S, l⟩ : Frm) = (⟨[], 0, 0, 0, 0, sixes l, false, true, false⟩, noFlt) by simp [Fr.read, hs, hB, hl1, noPrt]]
          exact pread_k4 F S l A l.length c w _ (fun W hW => pcon4_d F S l A l.length c W 0 hs hB (by omega) hl0 (hA.up hW) hb rfl hcl hn)
      | false =>
        by_cases hm : l.length % 6 = 0
        · rw [show Fr.read (⟨4, F, S, l⟩ : Frm) = (⟨[], 0, 0, 0, 0, sixes l, false, false, false⟩, noFlt) by simp [Fr.read, hs, hB, hm, noPrt]]
          exact pread_k4 F S l A l.length c w _ (fun W hW => pcon4_e F S l A l.length c W (l.length / 6) hs hB (by omega) (hA.up hW) hb rfl hcl hn)
        · rw [show Fr.read (⟨4, F, S, l⟩ : Frm) = (noPrt, ⟨true, true, 6⟩) by simp [Fr.read, hs, hB, hm, wrong]]
          exact pread_k4 F S l A l.length c w _ (fun W _ => pcon4_c F S l A l.length c W hs hB hm hn)
    · rw [show Fr.read (⟨4, F, S, l⟩ : Frm) = (noPrt, ⟨true, true, 1⟩) by simp [Fr.read, hs, wrong]]
      exact pread_k4 F S l A l.length c w _ (fun W _ => pcon4_a F S l A l.length c W hs)
  by_cases h5 : k = 5
  · subst h5
    rw [show Fr.read (⟨5, F, S, l⟩ : Frm) = (noPrt, ⟨true, true, 1⟩) by simp [Fr.read, wrong]]
    exact pread_k5 F S l A l.length c w
  by_cases h6 : k = 6
  · subst h6
    by_cases hs : S = 0
    · by_cases hm : l.length = 8
      · rw [show Fr.read (⟨6, F, S, l⟩ : Frm) = (⟨l, 0, 0, 0, 0, [], false, bit F 0, false⟩, noFlt) by simp [Fr.read, hs, hm, noPrt]]
        exact pread_k6 F S l A l.length c w _ (fun W hW => pcon6_c F S l A l.length c W hs hm (hA.up hW) rfl hc hn)
      · rw [show Fr.read (⟨6, F, S, l⟩ : Frm) = (noPrt, ⟨true, true, 6⟩) by simp [Fr.read, hs, hm, wrong]]
        exact pread_k6 F S l A l.length c w _ (fun W _ => pcon6_b F S l A l.length c W hs hm)
    · rw [show Fr.read (⟨6, F, S, l⟩ : Frm) = (noPrt, ⟨true, true, 1⟩) by simp [Fr.read, hs, wrong]]
      exact pread_k6 F S l A l.length c w _ (fun W _ => pcon6_a F S l A l.length c W hs)
  by_cases h7 : k = 7
  · subst h7
    by_cases hs : S = 0
    · by_cases hm : l.length < 8
      · rw [show Fr.read (⟨7, F, S, l⟩ : Frm) = (noPrt, ⟨true, true, 6⟩) by simp [Fr.read, hs, hm, wrong]]
        exact pread_k7 F S l A l.length c w _ (fun W _ => pcon7_b F S l A l.length c W hs hm)
      · rw [show Fr.read (⟨7, F, S, l⟩ : Frm) = (⟨[], 0, val ((l.drop 4).take 4), val (l.take 4) % 2147483648, 0, [], false, false, false⟩, noFlt) by simp [Fr.read, hs, hm, noPrt]]
        exact pread_k7 F S l A l.length c w _ (fun W hW => pcon7_c F S l A l.length c W hs hm (hA.up hW) hb rfl hcl)
    · rw [show Fr.read (⟨7, F, S, l⟩ : Frm) = (noPrt, ⟨true, true, 1⟩) by simp [Fr.read, hs, wrong]]
      exact pread_k7 F S l A l.length c w _ (fun W _ => pcon7_a F S l A l.length c W hs)
  by_cases h8 : k = 8
  · subst h8
    by_cases hm : l.length = 4
    · by_cases h0 : val l % 2147483648 = 0
      · by_cases hs : S = 0
        · rw [show Fr.read (⟨8, F, S, l⟩ : Frm) = (noPrt, ⟨true, true, 1⟩) by simp [Fr.read, hs, hm, h0, wrong]]
          exact pread_k8 F S l A l.length c w _ (fun W hW => pupd_b F S l A l.length c W hs hm h0 (hA.up hW) hb rfl)
        · rw [show Fr.read (⟨8, F, S, l⟩ : Frm) = (noPrt, ⟨true, false, 1⟩) by simp [Fr.read, hs, hm, h0, wrong]]
          exact pread_k8 F S l A l.length c w _ (fun W hW => pupd_c F S l A l.length c W hs hm h0 (hA.up hW) hb rfl)
      · rw [show Fr.read (⟨8, F, S, l⟩ : Frm) = (⟨[], 0, 0, 0, val l % 2147483648, [], false, false, false⟩, noFlt) by simp [Fr.read, hm, h0, noPrt]]
        exact pread_k8 F S l A l.length c w _ (fun W hW => pupd_d F S l A l.length c W hm h0 (hA.up hW) hb rfl)
    · rw [show Fr.read (⟨8, F, S, l⟩ : Frm) = (noPrt, ⟨true, true, 6⟩) by simp [Fr.read, hm, wrong]]
      exact pread_k8 F S l A l.length c w _ (fun W _ => pupd_a F S l A l.length c W hm)
  by_cases h9 : k = 9
  · subst h9
    by_cases hs : S = 0
    · rw [show Fr.read (⟨9, F, S, l⟩ : Frm) = (noPrt, ⟨true, true, 1⟩) by simp [Fr.read, hs, wrong]]
      exact pread_k9 F S l A l.length c w _ (fun W _ => pstm9_a F S l A l.length c W hs)
    · rw [show Fr.read (⟨9, F, S, l⟩ : Frm) = (⟨l, 0, 0, 0, 0, [], false, false, bit F 2⟩, noFlt) by simp [Fr.read, hs, noPrt]]
      exact pread_k9 F S l A l.length c w _ (fun W hW => pstm9_c F S l A l.length c W hs (hA.up hW) rfl hc hn)
  · rw [show Fr.read (⟨k, F, S, l⟩ : Frm) = (noPrt, noFlt) by simp [Fr.read, h0, h1, h2, h3, h4, h5, h6, h7, h8, h9]]
    exact pread_ko k F S l A l.length c w (by omega)
theorem pread_f (s : FrA) (w : World) (h : s.ok w w.heap.size) (hl : s.f.body.length ≤ 90000) : Calls Try.prog 9 #[frm s.f s.ad s.cap] w (PtPost w (Fr.read s.f)) :=
  pread_any s.f s.ad s.cap w h.at' h.bytes h.nil h.room (by omega)
end Go.Proofs.Ytelbldhnlmggiaa
