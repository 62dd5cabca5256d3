/- Chapter 9 over plain values: what is written is read back. -/
import Derived.Test.YtiandidencnlcaaDoorQMath
namespace Go.Proofs.YtiandidencnlcaaDoor
open Go.RowKit

theorem put_head (h b n : Nat) : ∃ x r, Pn.put h b n = x :: r ∧ x / 2 ^ b = h / 2 ^ b := by
  unfold Pn.put
  split
  · rename_i h1
    exact ⟨_, _, rfl, Pn.hd_div h b n (by have := Pn.full_lt b; omega)⟩
  · exact ⟨_, _, rfl, Pn.hd_div h b _ (Pn.full_lt b)⟩
theorem getD_of_drop {b : List Nat} {k x : Nat} {r : List Nat} (h : b.drop k = x :: r) : b.getD k 0 = x := by
  have h1 : b[k]? = some x := by
    have := List.getElem?_drop (xs := b) (i := k) (j := 0)
    rw [h] at this
    simpa using this.symm
  rw [List.getD, h1]
  rfl
theorem drop_len {b : List Nat} {k : Nat} {t : List Nat} (h : b.drop k = t) (ht : 0 < t.length) : b.length = k + t.length := by
  have := congrArg List.length h
  rw [List.length_drop] at this
  omega
/-- A number that was written, at its place. -/
theorem get_at {b : List Nat} {k h B n : Nat} {r : List Nat} (hd : b.drop k = Pn.put h B n ++ r) (hB1 : 1 ≤ B) (hB8 : B ≤ 8) (hn : n ≤ 2147483647) : Pn.getI (b.drop k) (B : Int) = (n, (Pn.put h B n).length, 0) := by
  rw [hd, Pn.getI, if_neg (by omega), Int.toNat_natCast, Pn.get_put h B n r hn]
theorem head_at {b : List Nat} {k h B n : Nat} {r : List Nat} (hd : b.drop k = Pn.put h B n ++ r) : b.getD k 0 / 2 ^ B = h / 2 ^ B := by
  obtain ⟨x, t, e, hx⟩ := put_head h B n
  rw [e, List.cons_append] at hd
  rw [getD_of_drop hd, hx]
theorem pstr_pos (s : List Nat) : 1 ≤ (pstr s).length := by
  unfold pstr
  split
  · have := Pn.put_pos 128 7 ((Hf.nBits s + 7) / 8); rw [List.length_append]; omega
  · have := Pn.put_pos 0 7 s.length; rw [List.length_append]; omega
/-- A string that was written, at its place. -/
theorem utext_at {b : List Nat} {k : Nat} {s r : List Nat} (hd : b.drop k = pstr s ++ r) (hs : ∀ x ∈ s, x < 256) (hl : s.length ≤ 16384) : utext b k = (s, k + (pstr s).length, true) := by
  have hp := pstr_pos s
  have hbl := drop_len hd (by rw [List.length_append]; omega)
  rw [List.length_append] at hbl
  by_cases hh : (Hf.nBits s + 7) / 8 < s.length
  · have e : pstr s = Pn.put 128 7 ((Hf.nBits s + 7) / 8) ++ Hf.enc s := by rw [pstr, if_pos hh]
    have he := Hf.enc_len s
    obtain ⟨n, hn⟩ : ∃ n, n = (Hf.nBits s + 7) / 8 := ⟨_, rfl⟩
    rw [← hn] at e he hh
    have hlen : (pstr s).length = (Pn.put 128 7 n).length + n := by rw [e, List.length_append, he]
    have hd2 : b.drop k = Pn.put 128 7 n ++ (Hf.enc s ++ r) := by rw [hd, e, List.append_assoc]
    have hg := get_at hd2 (by omega) (by omega) (by omega)
    have hc := head_at hd2
    obtain ⟨u, hu⟩ : ∃ u, u = (Pn.put 128 7 n).length := ⟨_, rfl⟩
    rw [← hu] at hg hlen
    have hd3 : b.drop (k + u) = Hf.enc s ++ r := by rw [← List.drop_drop, hd2, hu, List.drop_left]
    have ht : (b.drop (k + u)).take n = Hf.enc s := by rw [hd3, ← he, List.take_left]
    rw [utext, if_neg (by omega), show ((7 : Nat) : Int) = 7 from rfl] at *
    rw [hg]
    simp only [utextG]
    rw [if_neg (by omega), if_neg (by omega), ht, Hf.dec_enc s 16384 hs (by omega)]
    simp only [decide_true, hlen, Nat.add_assoc]
  · have e : pstr s = Pn.put 0 7 s.length ++ s := by rw [pstr, if_neg hh]
    obtain ⟨n, hn⟩ : ∃ n, n = s.length := ⟨_, rfl⟩
    rw [← hn] at e hl
    have hlen : (pstr s).length = (Pn.put 0 7 n).length + n := by rw [e, List.length_append, ← hn]
    have hd2 : b.drop k = Pn.put 0 7 n ++ (s ++ r) := by rw [hd, e, List.append_assoc]
    have hg := get_at hd2 (by omega) (by omega) (by omega)
    have hc := head_at hd2
    obtain ⟨u, hu⟩ : ∃ u, u = (Pn.put 0 7 n).length := ⟨_, rfl⟩
    rw [← hu] at hg hlen
    have hd3 : b.drop (k + u) = s ++ r := by rw [← List.drop_drop, hd2, hu, List.drop_left]
    have ht : (b.drop (k + u)).take n = s := by rw [hd3, hn, List.take_left]
    rw [utext, if_neg (by omega), show ((7 : Nat) : Int) = 7 from rfl] at *
    rw [hg]
    simp only [utextG]
    rw [if_neg (by omega), if_pos (by omega), ht, hlen, Nat.add_assoc]
/-- A field whose texts may be written. -/
def Fld.fits (f : Fld) : Prop := f.name.size ≤ 16384 ∧ f.value.size ≤ 16384
theorem pfld_pos (m : Nat) (L : List Fld) (f : Fld) : 1 ≤ (pfld m L f).1.length := by
  unfold pfld
  split
  · exact Pn.put_pos _ _ _
  · show 1 ≤ (plit L f).length
    rw [plit, List.length_append]
    have := Pn.put_pos (if f.never then 16 else 64) (if f.never then 4 else 6) (pname L f.name f.value)
    omega
theorem fld_tot {m : Nat} {L : List Fld} {f : Fld} (h : tot L ≤ m) : tot (pfld m L f).2 ≤ m := by
  unfold pfld
  split
  · exact h
  · show tot (if f.never then L else addL m f L) ≤ m
    split
    · exact h
    · exact fit_tot _ _
/-- A field that was written, at its place. -/
theorem uone_at {b : List Nat} {k m : Nat} {L : List Fld} {f : Fld} {r : List Nat} (hd : b.drop k = (pfld m L f).1 ++ r) (hf : f.fits) (hL : Open L) (hn : L.length ≤ 1000) :
    uone b k m L = ⟨f, k + (pfld m L f).1.length, false, true, m, (pfld m L f).2⟩ := by
  have hbo := both_le L f.name f.value hn
  have hna := name_le L f.name f.value hn
  by_cases hi : 0 < pboth L f.name f.value ∧ f.never = false
  · have e : pfld m L f = (Pn.put 128 7 (pboth L f.name f.value), L) := by rw [pfld, if_pos hi]
    rw [e] at hd ⊢
    simp only [] at hd ⊢
    have hg := get_at hd (by omega) (by omega) (by omega)
    have hc := head_at hd
    have hu : ubits (b.getD k 0) = 7 := by rw [ubits, if_pos (by omega)]
    rw [uone, hu, hg]
    simp only [uoneG]
    rw [if_neg (by omega), if_pos (by omega), both_is hL hi.1]
    obtain ⟨n, v, x⟩ := f
    simp only [] at hi ⊢
    rw [hi.2]
  · have e : pfld m L f = (plit L f, if f.never then L else addL m f L) := by rw [pfld, if_neg hi]
    rw [e] at hd ⊢
    simp only [] at hd ⊢
    obtain ⟨nm, va, nv⟩ := f
    obtain ⟨hf1, hf2⟩ := hf
    simp only [plit] at hd ⊢
    simp only [] at hf1 hf2 hna
    obtain ⟨i, hi⟩ : ∃ i, i = pname L nm va := ⟨_, rfl⟩
    rw [← hi] at hd hna ⊢
    obtain ⟨h, hh⟩ : ∃ h, h = (if nv then 16 else 64 : Nat) := ⟨_, rfl⟩
    obtain ⟨B, hB⟩ : ∃ B, B = (if nv then 4 else 6 : Nat) := ⟨_, rfl⟩
    rw [← hh, ← hB] at hd ⊢
    have hB18 : 1 ≤ B ∧ B ≤ 8 := by rw [hB]; split <;> omega
    rw [List.append_assoc] at hd
    have hg := get_at hd hB18.1 hB18.2 (by omega)
    have hc := head_at hd
    obtain ⟨u, hu⟩ : ∃ u, u = (Pn.put h B i).length := ⟨_, rfl⟩
    have hd2 := congrArg (List.drop u) hd
    rw [List.drop_drop, hu, List.drop_left, ← hu] at hd2
    rw [← hu] at hg
    -- the name's part
    obtain ⟨N, hN⟩ : ∃ N, N = (if i = 0 then pstr (nums nm) else []) := ⟨_, rfl⟩
    rw [← hN] at hd2 ⊢
    rw [List.append_assoc] at hd2
    have hname : uname b i (k + u) L = (nm, k + u + N.length, true) := by
      rw [uname]
      by_cases h0 : 0 < i
      · have hx := name_is (L := L) (n := nm) (v := va) (by rw [← hi]; exact h0)
        rw [← hi] at hx
        rw [if_pos h0, hx.1, hx.2, hN, if_neg (by omega)]
        rfl
      · rw [if_neg h0]
        rw [hN, if_pos (by omega)] at hd2
        rw [utext_at hd2 (nums_lt nm) (by rw [nums_len]; exact hf1), hN, if_pos (by omega), str_nums]
    have hd3 := congrArg (List.drop N.length) hd2
    rw [List.drop_drop, List.drop_left] at hd3
    have hval := utext_at hd3 (nums_lt va) (by rw [nums_len]; exact hf2)
    have hub : ubits (b.getD k 0) = B := by
      rw [ubits]
      cases nv
      · simp only [Bool.false_eq_true, if_false] at hh hB
        subst hh hB
        rw [if_neg (by omega), if_pos (by omega)]
      · simp only [if_true] at hh hB
        subst hh hB
        rw [if_neg (by omega), if_neg (by omega), if_neg (by omega)]
    have hcr : ¬ 128 ≤ b.getD k 0 ∧ ¬ (32 ≤ b.getD k 0 ∧ b.getD k 0 < 64) ∧ decide (16 ≤ b.getD k 0 ∧ b.getD k 0 < 32) = nv ∧ (64 ≤ b.getD k 0 ↔ nv = false) := by
      cases nv
      · simp only [Bool.false_eq_true, if_false] at hh hB
        subst hh hB
        refine ⟨by omega, by omega, decide_eq_false (by omega), fun _ => rfl, fun _ => by omega⟩
      · simp only [if_true] at hh hB
        subst hh hB
        refine ⟨by omega, by omega, decide_eq_true (by omega), fun h => by omega, fun h => by cases h⟩
    obtain ⟨hc1, hc2, hc3, hc4⟩ := hcr
    rw [uone, hub, hg]
    simp only [uoneG]
    rw [if_neg (by omega), if_neg hc1, if_neg hc2, hname, ulit]
    simp only []
    rw [if_neg (by simp), ulit2, hval]
    simp only []
    rw [if_neg (by simp), hc3, str_nums, List.length_append, List.length_append, ← hu, show k + (u + (N.length + (pstr (nums va)).length)) = k + u + N.length + (pstr (nums va)).length by omega]
    cases nv
    · rw [if_pos (hc4.2 rfl)]
      rfl
    · rw [if_neg (fun h => by have := hc4.1 h; cases this)]
      rfl
/-- All fields that were written, from their place to the end. -/
theorem ugo_at (b : List Nat) (room : Int) (m lims : Nat) : ∀ (fs : List Fld) (k fuel : Nat) (out L : List Fld), b.drop k = (pall m L fs).1 → k ≤ b.length → (pall m L fs).1.length < fuel → (∀ f ∈ fs, f.fits) → Open L → tot L ≤ m → m ≤ 4096 →
    ugo b room fuel k lims out m L = if room < (tot (out ++ fs) : Int) then ⟨[], 3, false, m, (pall m L fs).2⟩ else ⟨out ++ fs, 0, false, m, (pall m L fs).2⟩
  | [], k, fuel, out, L, hd, hk, hfu, _, _, _, _ => by
    obtain ⟨g, rfl⟩ : ∃ g, fuel = g + 1 := ⟨fuel - 1, by omega⟩
    have hl : b.length = k := by
      have := congrArg List.length hd
      rw [List.length_drop] at this
      simp only [pall, List.length_nil] at this
      omega
    rw [ugo, if_neg (by omega), List.append_nil]
    rfl
  | f :: fs, k, fuel, out, L, hd, hk, hfu, hf, hL, ht, hm => by
    obtain ⟨g, rfl⟩ : ∃ g, fuel = g + 1 := ⟨fuel - 1, by omega⟩
    have hp := pfld_pos m L f
    rw [pall] at hd hfu
    simp only [] at hd hfu
    rw [List.length_append] at hfu
    have hbl := drop_len hd (by rw [List.length_append]; omega)
    rw [List.length_append] at hbl
    have hln := tot_pos L
    have h1 := uone_at hd (hf f (by simp)) hL (by omega)
    have hd2 := congrArg (List.drop (pfld m L f).1.length) hd
    rw [List.drop_drop, List.drop_left] at hd2
    rw [ugo, if_pos (by omega), h1]
    simp only [Bool.true_eq_false, Bool.false_eq_true, if_false]
    rw [ugo_at b room m lims fs (k + (pfld m L f).1.length) g (out ++ [f]) (pfld m L f).2 hd2 (by omega) (by omega) (fun x hx => hf x (by simp [hx])) (open_fld hL) (fld_tot ht) hm, List.append_assoc]
    rfl
end Go.Proofs.YtiandidencnlcaaDoor
/- Chapter 9 over plain values: the encoder, its limits; what chapter 8's decoder makes of its blocks. -/
namespace Go.Proofs.YtiandidencnlcaaDoor
open Go.RowKit

/-- A limit as it holds. -/
def clampT (n : Int) : Nat := (min (max n 0) 4096).toNat
theorem clampT_le (n : Int) : clampT n ≤ 4096 := by unfold clampT; omega
/-- The encoder: its table's limit and fields; the limit told last, the least set since, was one set. -/
structure EncS where
  most : Nat
  tab : List Fld
  told : Nat
  least : Nat
  set : Bool
def EncS.new : EncS := ⟨4096, [], 4096, 0, false⟩
def EncS.peer (s : EncS) (n : Int) : EncS := ⟨clampT n, fitL (clampT n) s.tab, s.told, if s.set = false ∨ clampT n < s.least then clampT n else s.least, true⟩
/-- The limits that are to be told. -/
def EncS.lims (s : EncS) : List Nat := if s.set then (if s.least < s.most then Pn.put 32 5 s.least ++ Pn.put 32 5 s.most else if s.most ≠ s.told then Pn.put 32 5 s.most else []) else []
def allFit (l : List Fld) : Bool := l.all fun f => decide (f.name.size ≤ 16384) && decide (f.value.size ≤ 16384)
theorem allFit_iff {l : List Fld} : allFit l = true ↔ ∀ f ∈ l, f.fits := by simp [allFit, Fld.fits]
/-- A block: its bytes, what went wrong; the encoder then. -/
def EncS.enc (s : EncS) (l : List Fld) : List Nat × Nat × EncS :=
  if allFit l then (s.lims ++ (pall s.most s.tab l).1, 0, ⟨s.most, (pall s.most s.tab l).2, s.most, s.least, false⟩) else ([], 3, s)
theorem fit_fit : ∀ (L : List Fld) (a b : Nat), fitL a (fitL b L) = fitL (min a b) L
  | [], _, _ => rfl
  | f :: r, a, b => by
    by_cases hb : fsize f ≤ b
    · have e1 : fitL b (f :: r) = f :: fitL (b - fsize f) r := by rw [fitL, if_pos hb]
      rw [e1]
      by_cases ha : fsize f ≤ a
      · have e2 : fitL a (f :: fitL (b - fsize f) r) = f :: fitL (a - fsize f) (fitL (b - fsize f) r) := by rw [fitL, if_pos ha]
        rw [e2, fit_fit r, fitL, if_pos (by omega), show min (a - fsize f) (b - fsize f) = min a b - fsize f by omega]
      · have e2 : fitL a (f :: fitL (b - fsize f) r) = [] := by rw [fitL, if_neg ha]
        rw [e2, fitL, if_neg (by omega)]
    · have e1 : fitL b (f :: r) = [] := by rw [fitL, if_neg hb]
      rw [e1, fitL.eq_2 (min a b), if_neg (by omega)]
      rfl
/-- Encoder and decoder are in step: the decoder's limit and fields. -/
structure Sync (s : EncS) (md : Nat) (Ld : List Fld) : Prop where
  told : md = s.told
  fits : tot Ld ≤ md
  most : md ≤ 4096
  free : Open Ld
  calm : s.set = false → s.most = s.told ∧ s.tab = Ld
  moved : s.set = true → s.least ≤ s.most ∧ s.most ≤ 4096 ∧ s.tab = fitL s.least Ld
theorem sync_new : Sync EncS.new 4096 [] := ⟨rfl, by simp [tot], Nat.le_refl _, fun g hg => by simp at hg, fun _ => ⟨rfl, rfl⟩, fun h => by cases h⟩
theorem Sync.peer {s : EncS} {md : Nat} {Ld : List Fld} (h : Sync s md Ld) (n : Int) : Sync (s.peer n) md Ld := by
  have hc := clampT_le n
  refine ⟨h.told, h.fits, h.most, h.free, (fun h1 => by cases h1), fun _ => ?_⟩
  obtain ⟨c, hcc⟩ : ∃ c, c = clampT n := ⟨_, rfl⟩
  rw [← hcc] at hc
  simp only [EncS.peer, ← hcc]
  cases hs : s.set with
  | false =>
    rw [if_pos (.inl rfl), (h.calm hs).2]
    exact ⟨Nat.le_refl _, hc, rfl⟩
  | true =>
    obtain ⟨h1, h2, h3⟩ := h.moved hs
    rw [h3, fit_fit]
    by_cases hl : c < s.least
    · rw [if_pos (.inr hl), show min c s.least = c by omega]
      exact ⟨Nat.le_refl _, hc, rfl⟩
    · rw [if_neg (by simp; omega), show min c s.least = s.least by omega]
      exact ⟨by omega, hc, rfl⟩
theorem Sync.tab {s : EncS} {md : Nat} {Ld : List Fld} (h : Sync s md Ld) : tot s.tab ≤ s.most ∧ s.most ≤ 4096 ∧ Open s.tab := by
  cases hs : s.set with
  | false =>
    obtain ⟨h1, h2⟩ := h.calm hs
    rw [h1, h2, ← h.told]
    exact ⟨h.fits, h.most, h.free⟩
  | true =>
    obtain ⟨h1, h2, h3⟩ := h.moved hs
    have := fit_tot s.least Ld
    rw [h3]
    exact ⟨by omega, h2, open_fit h.free⟩
theorem all_tot {m : Nat} : ∀ (fs : List Fld) (L : List Fld), tot L ≤ m → tot (pall m L fs).2 ≤ m
  | [], _, h => h
  | f :: fs, L, h => by rw [pall]; exact all_tot fs _ (fld_tot h)
theorem all_open {m : Nat} : ∀ (fs : List Fld) (L : List Fld), Open L → Open (pall m L fs).2
  | [], _, h => h
  | f :: fs, L, h => by rw [pall]; exact all_open fs _ (open_fld h)
theorem Sync.next {s : EncS} {md : Nat} {Ld : List Fld} (h : Sync s md Ld) (l : List Fld) (x : Nat) : Sync ⟨s.most, (pall s.most s.tab l).2, s.most, x, false⟩ s.most (pall s.most s.tab l).2 := by
  obtain ⟨h1, h2, h3⟩ := h.tab
  exact ⟨rfl, all_tot l _ h1, h2, all_open l _ h3, fun _ => ⟨rfl, rfl⟩, fun h => by cases h⟩
/-- A limit that was written, at its place. -/
theorem uone_lim {b : List Nat} {k m n : Nat} {L : List Fld} {r : List Nat} (hd : b.drop k = Pn.put 32 5 n ++ r) (hn : n ≤ 4096) : uone b k m L = ⟨noFld, k + (Pn.put 32 5 n).length, true, true, n, fitL n L⟩ := by
  have hg := get_at hd (by omega) (by omega) (by omega)
  have hc := head_at hd
  have hu : ubits (b.getD k 0) = 5 := by rw [ubits, if_neg (by omega), if_neg (by omega), if_pos (by omega)]
  rw [uone, hu, hg]
  simp only [uoneG]
  rw [if_neg (by omega), if_neg (by omega), if_pos (by omega), if_pos hn]
theorem ugo_lim {b : List Nat} {room : Int} {fuel k lims m n : Nat} {L : List Fld} {r : List Nat} (hd : b.drop k = Pn.put 32 5 n ++ r) (hn : n ≤ 4096) (hl : lims + 1 ≤ 2) : ugo b room (fuel + 1) k lims [] m L = ugo b room fuel (k + (Pn.put 32 5 n).length) (lims + 1) [] n (fitL n L) := by
  have hp := Pn.put_pos 32 5 n
  have hbl := drop_len hd (by rw [List.length_append]; omega)
  rw [List.length_append] at hbl
  rw [ugo, if_pos (by omega), uone_lim hd hn]
  simp only [Bool.true_eq_false, if_false, if_true]
  rw [if_pos ⟨by simp [tot], hl⟩]
/-- What the decoder makes of a block. -/
theorem Sync.dec {s : EncS} {md : Nat} {Ld : List Fld} (h : Sync s md Ld) (l : List Fld) (hl : ∀ f ∈ l, f.fits) (room : Int) :
    udec (s.lims ++ (pall s.most s.tab l).1) room false md Ld = if room < (tot l : Int) then ⟨[], 3, false, s.most, (pall s.most s.tab l).2⟩ else ⟨l, 0, false, s.most, (pall s.most s.tab l).2⟩ := by
  obtain ⟨h1, h2, h3⟩ := h.tab
  rw [udec, if_neg (by simp)]
  cases hs : s.set with
  | false =>
    obtain ⟨c1, c2⟩ := h.calm hs
    have e : s.lims = [] := by rw [EncS.lims, hs]; rfl
    rw [e, List.nil_append, show md = s.most by rw [c1]; exact h.told, ← c2]
    have := ugo_at (pall s.most s.tab l).1 room s.most 0 l 0 ((pall s.most s.tab l).1.length + 1) [] s.tab rfl (Nat.zero_le _) (by omega) hl h3 h1 h2
    rw [List.nil_append] at this
    exact this
  | true =>
    obtain ⟨m1, m2, m3⟩ := h.moved hs
    by_cases hlt : s.least < s.most
    · have e : s.lims = Pn.put 32 5 s.least ++ Pn.put 32 5 s.most := by rw [EncS.lims, hs, if_pos rfl, if_pos hlt]
      rw [e]
      obtain ⟨b, hb⟩ : ∃ b, b = Pn.put 32 5 s.least ++ Pn.put 32 5 s.most ++ (pall s.most s.tab l).1 := ⟨_, rfl⟩
      rw [← hb]
      have hd0 : b.drop 0 = Pn.put 32 5 s.least ++ (Pn.put 32 5 s.most ++ (pall s.most s.tab l).1) := by rw [hb, List.drop_zero, List.append_assoc]
      have hd1 : b.drop (0 + (Pn.put 32 5 s.least).length) = Pn.put 32 5 s.most ++ (pall s.most s.tab l).1 := by rw [Nat.zero_add, hb, List.append_assoc, List.drop_left]
      have hd2 : b.drop (0 + (Pn.put 32 5 s.least).length + (Pn.put 32 5 s.most).length) = (pall s.most s.tab l).1 := by rw [← List.drop_drop, hd1, List.drop_left]
      have p1 := Pn.put_pos 32 5 s.least
      have p2 := Pn.put_pos 32 5 s.most
      have hbl : b.length = (Pn.put 32 5 s.least).length + (Pn.put 32 5 s.most).length + (pall s.most s.tab l).1.length := by rw [hb]; simp only [List.length_append]
      obtain ⟨g, hg⟩ : ∃ g, b.length + 1 = g + 1 + 1 := ⟨b.length - 1, by omega⟩
      rw [hg, ugo_lim hd0 (by omega) (by omega), ugo_lim hd1 m2 (by omega), fit_fit, show min s.most s.least = s.least by omega, ← m3]
      have := ugo_at b room s.most (0 + 1 + 1) l _ g [] s.tab hd2 (by omega) (by omega) hl h3 h1 h2
      rw [List.nil_append] at this
      exact this
    · have hle : s.least = s.most := by omega
      by_cases hne : s.most ≠ s.told
      · have e : s.lims = Pn.put 32 5 s.most := by rw [EncS.lims, hs, if_pos rfl, if_neg hlt, if_pos hne]
        rw [e]
        obtain ⟨b, hb⟩ : ∃ b, b = Pn.put 32 5 s.most ++ (pall s.most s.tab l).1 := ⟨_, rfl⟩
        rw [← hb]
        have hd1 : b.drop 0 = Pn.put 32 5 s.most ++ (pall s.most s.tab l).1 := by rw [hb, List.drop_zero]
        have hd2 : b.drop (0 + (Pn.put 32 5 s.most).length) = (pall s.most s.tab l).1 := by rw [Nat.zero_add, hb, List.drop_left]
        have p2 := Pn.put_pos 32 5 s.most
        have hbl : b.length = (Pn.put 32 5 s.most).length + (pall s.most s.tab l).1.length := by rw [hb]; simp only [List.length_append]
        rw [ugo_lim hd1 m2 (by omega), ← hle, ← m3, hle]
        have := ugo_at b room s.most (0 + 1) l _ b.length [] s.tab hd2 (by omega) (by omega) hl h3 h1 h2
        rw [List.nil_append] at this
        exact this
      · have hmt : s.most = s.told := by omega
        have e : s.lims = [] := by rw [EncS.lims, hs, if_pos rfl, if_neg hlt, if_neg hne]
        have htab : Ld = s.tab := by rw [m3, hle, hmt, ← h.told, fit_all md Ld h.fits]
        rw [e, List.nil_append, show md = s.most by rw [hmt]; exact h.told, htab]
        have := ugo_at (pall s.most s.tab l).1 room s.most 0 l 0 ((pall s.most s.tab l).1.length + 1) [] s.tab rfl (Nat.zero_le _) (by omega) hl h3 h1 h2
        rw [List.nil_append] at this
        exact this
end Go.Proofs.YtiandidencnlcaaDoor
