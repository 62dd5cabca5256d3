/- The walk of DynPlays, within the bounds. -/
import Derived.Test.YtjohchedckmadaaDPlays
import Derived.Deep.CutBlock
import Derived.Deep.RegionHeld3
namespace Go.Proofs.Ytjohchedckmadaa
open Go.RowKit

namespace dynPlays
def PlR (w : World) (n p q : Nat) (i : Value) (wr : World) : Prop := ∃ k m L, k ≤ n ∧ i = .int .i64 (k : Int) ∧ Two w p q m m L L (fun _ => False) wr
def PlM (w : World) (p q : Nat) (wr : World) : Prop := ∃ m L, Two w p q m m L L (fun _ => False) wr
def PlI (w : World) (p q m : Nat) (L : List Fld) (i : Value) (wr : World) : Prop := ∃ j, j ≤ L.length + 2 ∧ i = .int .i64 (j : Int) ∧ Two w p q m m L L (fun _ => False) wr
set_option maxRecDepth 100000 in
set_option maxHeartbeats 8000000 in
theorem walk_few (mo : Nat) (A : Option Addr) (l : List Opn) (n c : Nat) (w : World) (hR : Rdy w) (hA : AtO w w.heap.size A l) (hl : l.length = n) (hok : ∀ q ∈ l, q.fit) (hf : few7 l = true) (hmo : mo ≤ 4096) :
    Calls Try.prog 3 #[.int .i64 (mo : Int), .slice A n c] w (Yes w) := by
  have HR := Lib.hid fun (w' : World) (hb : Below w.heap.size w w') => hR.below hb
  have HFI := Lib.hid (first_any w hR)
  obtain ⟨hn200, htl⟩ := few7_tot hf
  have hn2 : n ≤ 200 := by omega
  have HTL : Hid (∀ q ∈ l, fsize q.fld ≤ 46400) := Lib.hid (fun q hq => Nat.le_trans (fsize_le (List.mem_map.2 ⟨q, hq, rfl⟩)) htl)
  have HFIT : Hid (∀ q ∈ l, q.fld.fit) := Lib.hid (fun q hq => by
    have h := HTL.out q hq
    unfold fsize at h
    exact ⟨by omega, by omega⟩)
  have HOK := Lib.hid hok
  have HA := Lib.hid hA
  have HL := Lib.hid hl
  have HMO := Lib.hid hmo
  clear hR hn200 htl hok
  go_enter Try.func3, Try.ntmps3
  go_wp2_with fail
  with_reducible refine (HFI.out).mono ?_
  rintro e w1 ⟨rfl, hb1⟩
  have HF := few7_any A l n c w1 (hA.up hb1) hl HFIT.out
  rw [hf] at HF
  have HF := Lib.hid HF
  clear hA hl hf
  go_wp2_with fail
  with_reducible refine (HF.out).mono ?_
  rintro e w2 ⟨rfl, hbn⟩
  have hb2 := hb1.trans (hbn.mono hb1.size)
  have HNW := Lib.hid (dnew_ok mo w2 (HR.out _ hb2) HMO.out)
  clear hb1 hbn HF HFI hmo
  go_wp2_with fail
  with_reducible refine (HNW.out).mono ?_
  rintro e w3 ⟨p, S, rfl, hT, hS, hb3'⟩
  have hb3 := hb2.trans (hb3'.mono hb2.size)
  have HRN := Lib.hid (rnew_ok mo w3 HMO.out)
  have HTW : Hid (Two w p w3.heap.size mo mo [] [] (fun _ => False) (w3.alloc (.cells #[.int .i64 (mo : Int), .slice none 0 0] 45))) := Lib.hid (by
    have hba : Below w3.heap.size w3 (w3.alloc (.cells #[.int .i64 (mo : Int), .slice none 0 0] 45)) := (Below.refl _ _).alloc (Nat.le_refl _) _
    refine ⟨S, _, hT.keep (S' := fun _ => False) (Keeps.of_below hba) (fun _ _ h => h), rt_new w3 mo, fun x hx => Nat.le_trans hb2.size (hS x hx), fun x hx => ?_, fun x hs ht => ?_, fun _ h => h.elim, hb3.alloc hb3.size _⟩
    · rw [hx]; exact hb3.size
    · have := hT.low x hs
      omega)
  clear hT hS hb3' hb3 hb2 HNW
  go_wp2_with fail
  with_reducible refine (HRN.out).mono ?_
  rintro e w4 ⟨rfl, hw4⟩
  rw [← hw4] at HTW
  obtain ⟨q, hq⟩ : ∃ q, q = w3.heap.size := ⟨_, rfl⟩
  rw [← hq] at HTW ⊢
  have hr0 : PlR w n p q (.int .i64 0) w4 := ⟨0, mo, [], Nat.zero_le _, rfl, HTW.out⟩
  clear HTW hw4 hq HRN
  go_wp2
  go_loopw [9, 10, 11, 12, 13, 14, 15, 16, 17, 18, 19, 20, 21, 22, 23] (fun i _ _ _ _ _ _ _ _ _ _ _ _ _ _ wr => PlR w n p q i wr) (fun i _ _ _ _ _ _ _ _ _ _ _ _ _ _ _ => n - (intOf i).toNat)
  case atStart => exact hr0
  case round =>
    clear hr0
    obtain ⟨k, m, L, hk, rfl, hH⟩ := hrel
    by_cases hlt : k < n
    · have ki : (k : Int) < (n : Int) := by omega
      have hkl : k < l.length := by have := HL.out; omega
      obtain ⟨b, o, rfl, hb, hc⟩ := HA.out.pos (by omega)
      obtain ⟨x, hx⟩ : ∃ x, x = l[k] := ⟨_, rfl⟩
      have hxm : x ∈ l := by rw [hx]; exact List.getElem_mem _
      have hop := (hc k hkl).below hH.below hb
      rw [← hx] at hop
      have HFS := Lib.hid (HTL.out x hxm)
      have HQK := Lib.hid (HOK.out x hxm)
      clear hc hkl hx hxm
      obtain ⟨K, N, F1, F2, F3⟩ := x
      obtain ⟨d0, d1, d2, d3, d4⟩ := hop
      simp only [] at d0 d1 d2 d3 d4
      obtain ⟨wa, hwa⟩ : ∃ wa, wa = wr.alloc (.cells #[.int .i64 K, .int .i64 N, .string F1, .string F2, .bool F3] 35) := ⟨_, rfl⟩
      obtain ⟨g, hg⟩ : ∃ g, g = wr.heap.size := ⟨_, rfl⟩
      have hH2 := hH.block (.cells #[.int .i64 K, .int .i64 N, .string F1, .string F2, .bool F3] 35)
      rw [← hwa, ← hg] at hH2
      have HH2 := Lib.hid hH2
      have hh : wa.heap[g]? = some (.cells #[.int .i64 K, .int .i64 N, .string F1, .string F2, .bool F3] 35) := by rw [hwa, hg]; exact heap_alloc_new wr _
      have HFT := Lib.hid hH.fits
      clear hH hH2
      go_upto_block 2 with fail
      rw [← hwa, ← hg]
      have HWG := Lib.hid hg
      have HWA := Lib.hid hwa
      have HHH := Lib.hid hh
      clear hg hwa hh d0 d1 d2 d3 d4
      go_cut [11, 12, 13, 14, 15, 16, 17, 18] (fun _ _ _ _ _ _ _ _ wx => PlM w p q wx)
      case first =>
        have c0 : wa.cell? ⟨g, 0, none⟩ = some (.int .i64 K) := cell_of_row _ g 0 _ 35 _ HHH.out
        by_cases hK0 : K = 0
        · subst hK0
          have c2 : wa.cell? ⟨g, 2, none⟩ = some (.string F1) := cell_of_row _ g 2 _ 35 _ HHH.out
          have c3 : wa.cell? ⟨g, 3, none⟩ = some (.string F2) := cell_of_row _ g 3 _ 35 _ HHH.out
          have c4 : wa.cell? ⟨g, 4, none⟩ = some (.bool F3) := cell_of_row _ g 4 _ 35 _ HHH.out
          have HADD := Lib.hid (HH2.out.add (HR.out _ HH2.out.below) ⟨F1, F2, F3⟩ HFS.out)
          go_wp2_with fail
          with_reducible refine (HADD.out).mono ?_
          rintro e w5 ⟨rfl, hH5, hk5⟩
          clear c0 c2 c3 c4 HADD
          have hh5 := (hk5 g rfl).trans HHH.out
          have c2 : w5.cell? ⟨g, 2, none⟩ = some (.string F1) := cell_of_row _ g 2 _ 35 _ hh5
          have c3 : w5.cell? ⟨g, 3, none⟩ = some (.string F2) := cell_of_row _ g 3 _ 35 _ hh5
          have c4 : w5.cell? ⟨g, 4, none⟩ = some (.bool F3) := cell_of_row _ g 4 _ 35 _ hh5
          have HADD := Lib.hid (hH5.radd (by have := HFT.out; omega) ⟨F1, F2, F3⟩ HFS.out)
          clear hH5 hk5 hh5
          go_wp2_with fail
          with_reducible refine (HADD.out).mono ?_
          rintro e w6 ⟨rfl, hH6, _⟩
          clear c2 c3 c4 HADD
          go_wp2
          go_meet
          case rel => exact ⟨m, _, hH6.less⟩
        · have q0 : (K == 0) = false := beq_eq_false_iff_ne.2 hK0
          have c1 : wa.cell? ⟨g, 1, none⟩ = some (.int .i64 N) := cell_of_row _ g 1 _ 35 _ HHH.out
          by_cases hK1 : K = 1
          · subst hK1
            by_cases hN : 0 ≤ N ∧ N ≤ 4096
            · obtain ⟨N0, rfl⟩ : ∃ x : Nat, N = (x : Int) := ⟨N.toNat, by omega⟩
              have hbd : Below wa.heap.size wa wa.drew := (Below.refl _ _).drew
              have hHd := HH2.out.quiet hbd
              have HLA := Lib.hid (hHd.limit (HR.out _ hHd.below) N0 (by omega))
              have hN2 : N0 ≤ 4096 := by omega
              have HG1 := Lib.hid fun (W : World) (hW : W.heap[g]? = wa.heap[g]?) => cell_of_row W g 1 _ 35 _ (hW.trans HHH.out)
              go_wp2
              go_region_held3 (fun w' => w'.cell? ⟨g, 1, none⟩ = some (.int .i64 (N0 : Int)))
                (first
                  | exact c1
                  | exact HG1.out _ hk6
                  | exact HG1.out _ hk5)
                (first
                  | ((with_reducible refine (HLA.out).mono ?_); rintro e w5 ⟨rfl, hH5, hk5'⟩; have hk5 := hk5' g rfl; clear hk5')
                  | ((with_reducible refine ((hH5.rlimit N0 hN2).mono ?_)); rintro e w6 ⟨rfl, hH6, hk6'⟩; have hk6 := (hk6' g rfl).trans hk5; clear hk6'))
              have hZ := hH6.less
              clear c0 c1 hbd hHd HLA hH5 hH6 hk5 hk6 HG1
              go_wp2
              go_meet
              case rel => exact ⟨N0, _, hZ⟩
            · have hbd : Below wa.heap.size wa wa.drew := (Below.refl _ _).drew
              have hHd := HH2.out.quiet hbd
              have HLA := Lib.hid (hHd.limit_no (HR.out _ hHd.below) N (by omega) (bounds_i64 HQK.out.2.1))
              have HRL := Lib.hid fun (W : World) => rlimit_no W q N (by omega)
              have HG1 := Lib.hid fun (W : World) (hW : W.heap[g]? = wa.heap[g]?) => cell_of_row W g 1 _ 35 _ (hW.trans HHH.out)
              clear hN
              go_wp2
              go_region_held3 (fun w' => w'.cell? ⟨g, 1, none⟩ = some (.int .i64 N))
                (first
                  | exact c1
                  | exact HG1.out _ hk5)
                (first
                  | ((with_reducible refine (HLA.out).mono ?_); rintro e w5 ⟨rfl, hH5, hk5'⟩; have hk5 := hk5' g rfl; clear hk5')
                  | ((with_reducible refine ((HRL.out w5).mono ?_)); rintro e w6 ⟨rfl, hw6⟩; subst hw6))
              have hZ := hH5.less
              clear c0 c1 hbd hHd HLA hH5 hk5 HG1 HRL
              go_wp2
              go_meet
              case rel => exact ⟨m, _, hZ⟩
          · have q1 : (K == 1) = false := beq_eq_false_iff_ne.2 hK1
            by_cases hK2 : K = 2
            · subst hK2
              obtain ⟨S, hDT⟩ := HH2.out.dt
              have hgf := dget_f wa S p m L N (HR.out _ HH2.out.below) hDT (bounds_i64 HQK.out.2.1)
              obtain ⟨G, hG⟩ : ∃ G, G = getL L N := ⟨_, rfl⟩
              rw [← hG] at hgf
              have HG := Lib.hid hG
              obtain ⟨⟨X, Y, Z⟩, B⟩ := G
              replace hgf := Lib.hid hgf
              have HG1 := Lib.hid fun (W : World) (hb : Below wa.heap.size wa W) => (hb.cell (p := ⟨g, 1, none⟩) (World.block_lt_of_cell? _ _ c1)).trans c1
              clear hDT hG
              go_wp2_with fail
              with_reducible refine (hgf.out).mono ?_
              rintro e w5 ⟨rfl, hb5⟩
              simp only []
              obtain ⟨wb, hwb⟩ : ∃ wb, wb = w5.alloc (.cells #[.string X, .string Y, .bool Z] 33) := ⟨_, rfl⟩
              obtain ⟨gx, hgx⟩ : ∃ gx, gx = w5.heap.size := ⟨_, rfl⟩
              have hbx : Below wa.heap.size wa wb := by rw [hwb]; exact hb5.alloc hb5.size _
              have hhx : wb.heap[gx]? = some (.cells #[.string X, .string Y, .bool Z] 33) := by rw [hwb, hgx]; exact heap_alloc_new w5 _
              have hgxl : gx < wb.heap.size := by rw [hwb, hgx]; simp
              have hHb := HH2.out.quiet hbx
              obtain ⟨T, hRT⟩ := hHb.rt
              have hrf := rtget_any wb T q m L N hRT (bounds_i64 HQK.out.2.1)
              rw [← HG.out] at hrf
              rw [hwb] at hrf
              replace hrf := Lib.hid hrf
              clear c0 c1 hgf hRT
              have c1 : (w5.alloc (.cells #[.string X, .string Y, .bool Z] 33)).cell? ⟨g, 1, none⟩ = some (.int .i64 N) := by rw [← hwb]; exact HG1.out wb hbx
              go_wp2_with fail
              with_reducible refine (hrf.out).mono ?_
              rw [← hwb]
              rintro e w6 ⟨rfl, hb6⟩
              simp only []
              rw [← hgx]
              have HGX := Lib.hid hgx
              clear c1 hrf hwb hgx
              obtain ⟨gy, hgy⟩ : ∃ gy, gy = w6.heap.size := ⟨_, rfl⟩
              have hb7 : Below wb.heap.size wb (w6.alloc (.cells #[.string X, .string Y, .bool Z] 33)) := hb6.alloc hb6.size _
              have hhx2 := (hb7.block gx hgxl).trans hhx
              have hhy : (w6.alloc (.cells #[.string X, .string Y, .bool Z] 33)).heap[gy]? = some (.cells #[.string X, .string Y, .bool Z] 33) := by rw [hgy]; exact heap_alloc_new w6 _
              have hZ := (hHb.quiet hb7).less
              have y0 : (w6.alloc (.cells #[.string X, .string Y, .bool Z] 33)).cell? ⟨gx, 0, none⟩ = some (.string X) := cell_of_row _ gx 0 _ 33 _ hhx2
              have y1 : (w6.alloc (.cells #[.string X, .string Y, .bool Z] 33)).cell? ⟨gx, 1, none⟩ = some (.string Y) := cell_of_row _ gx 1 _ 33 _ hhx2
              have y2 : (w6.alloc (.cells #[.string X, .string Y, .bool Z] 33)).cell? ⟨gx, 2, none⟩ = some (.bool Z) := cell_of_row _ gx 2 _ 33 _ hhx2
              clear hhx2 hhy hgy hb7 hHb hb6 hhx hgxl hbx hb5
              go_wp2
              go_meet
              case rel => exact ⟨m, _, hZ⟩
            · have q2 : (K == 2) = false := beq_eq_false_iff_ne.2 hK2
              have c2 : wa.cell? ⟨g, 2, none⟩ = some (.string F1) := cell_of_row _ g 2 _ 35 _ HHH.out
              have c3 : wa.cell? ⟨g, 3, none⟩ = some (.string F2) := cell_of_row _ g 3 _ 35 _ HHH.out
              have HG2 := Lib.hid fun (W : World) (hb : Below wa.heap.size wa W) => (hb.cell (p := ⟨g, 2, none⟩) (World.block_lt_of_cell? _ _ c2)).trans c2
              have HG3 := Lib.hid fun (W : World) (hb : Below wa.heap.size wa W) => (hb.cell (p := ⟨g, 3, none⟩) (World.block_lt_of_cell? _ _ c3)).trans c3
              have hfs := HFS.out
              unfold fsize at hfs
              simp only [] at hfs
              obtain ⟨S, hDT⟩ := HH2.out.dt
              have hff := dfind_f wa S p m L F1 F2 (HR.out _ HH2.out.below) hDT (by omega) (by omega)
              obtain ⟨G, hG⟩ : ∃ G, G = fndL F1.toList F2.toList L 0 := ⟨_, rfl⟩
              rw [← hG] at hff
              have HG := Lib.hid hG
              obtain ⟨r1, r2⟩ := G
              replace hff := Lib.hid hff
              have t1 : ((r1 : Int) != (r1 : Int)) = false := by simp
              have t2 : ((r2 : Int) != (r2 : Int)) = false := by simp
              clear hDT hG hfs
              go_wp2_with fail
              with_reducible refine (hff.out).mono ?_
              rintro e w5 ⟨rfl, hb5⟩
              simp only []
              have hHb := HH2.out.quiet hb5
              obtain ⟨T, hRT⟩ := hHb.rt
              have hrf := rtfind_any w5 T q m L F1 F2 hRT
              rw [← HG.out] at hrf
              replace hrf := Lib.hid hrf
              clear c0 c1 c2 c3 hff hRT
              have c2 := HG2.out w5 hb5
              have c3 := HG3.out w5 hb5
              have hZ := hHb.less
              clear hHb hb5
              go_wp2_with fail
              with_reducible refine (hrf.out).mono ?_
              rintro e w6 ⟨rfl, rfl⟩
              simp only []
              clear c2 c3 hrf
              go_wp2
              go_meet
              case rel => exact ⟨m, _, hZ⟩
      case rest =>
        clear HH2 HFT HHH HWA HWG HFS HQK
        obtain ⟨m2, L2, hH⟩ := hcut
        obtain ⟨hT, hM⟩ := hH.fits
        obtain ⟨S, hDT⟩ := hH.dt
        obtain ⟨T, hRT⟩ := hH.rt
        have htp := tot_pos L2
        obtain ⟨ln, hln⟩ : ∃ x, x = L2.length := ⟨_, rfl⟩
        have HLN := Lib.hid hln
        have hlnb : ln ≤ 128 := by omega
        have hql := hRT.lt
        obtain ⟨⟨A7, c7, hh7, hat7, hA7, hc7, _⟩, _⟩ := hRT
        rw [← hln] at hh7
        have x0 : wc.cell? ⟨q, 0, none⟩ = some (.int .i64 (m2 : Int)) := cell_of_row _ q 0 _ 45 _ hh7
        have x1 : wc.cell? ⟨q, 1, none⟩ = some (.slice A7 ln c7) := cell_of_row _ q 1 _ 45 _ hh7
        have HX0 := Lib.hid fun (W : World) (hb : Below wc.heap.size wc W) => (hb.cell (p := ⟨q, 0, none⟩) hql).trans x0
        have HX1 := Lib.hid fun (W : World) (hb : Below wc.heap.size wc W) => (hb.cell (p := ⟨q, 1, none⟩) hql).trans x1
        have hbw := hH.below
        have hdt := fun (W : World) (hb : Below wc.heap.size wc W) => hDT.keep (S' := fun _ => False) (Keeps.of_below hb) (fun _ _ h => h)
        have hrd := fun (W : World) (hb : Below wc.heap.size wc W) => HR.out W (hbw.trans (hb.mono hbw.size))
        have h1 := fun (W : World) (hb : Below wc.heap.size wc W) => dlen_f W S p m2 L2 (hrd W hb) (hdt W hb)
        have h2 := fun (W : World) (hb : Below wc.heap.size wc W) => dsize_f W S p m2 L2 (hrd W hb) (hdt W hb)
        have h3 := fun (W : World) (hb : Below wc.heap.size wc W) => rtotal_any A7 L2 ln c7 W (hat7.up hb) hln.symm (by omega)
        have h4 := fun (W : World) (hb : Below wc.heap.size wc W) => dmost_f W S p m2 L2 (hrd W hb) (hdt W hb)
        rw [← hln] at h1
        obtain ⟨U, hU⟩ : ∃ U, U = tot L2 := ⟨_, rfl⟩
        rw [← hU] at h2 h3
        have H1 := Lib.hid h1
        have H2 := Lib.hid h2
        have H3 := Lib.hid h3
        have H4 := Lib.hid h4
        have t1 : ((ln : Int) != (ln : Int)) = false := by simp
        have t2 : ((U : Int) != (U : Int)) = false := by simp
        have t3 : ((m2 : Int) != (m2 : Int)) = false := by simp
        have hbd : Below wc.heap.size wc wc.drew := (Below.refl _ _).drew
        have HTW := Lib.hid hH
        clear h1 h2 h3 h4 hU hln hDT hh7 hat7 hA7 hc7 hdt hrd hbw htp hT hH
        go_wp2
        go_region_held3 (fun w' => w'.cell? ⟨q, 0, none⟩ = some (.int .i64 (m2 : Int)) ∧ w'.cell? ⟨q, 1, none⟩ = some (.slice A7 ln c7))
          (first
            | exact ⟨x0, x1⟩
            | exact ⟨HX0.out _ hb8, HX1.out _ hb8⟩
            | exact ⟨HX0.out _ hb7, HX1.out _ hb7⟩
            | exact ⟨HX0.out _ hb6, HX1.out _ hb6⟩
            | exact ⟨HX0.out _ hb5, HX1.out _ hb5⟩)
          (first
            | ((with_reducible refine (H1.out _ hbd).mono ?_); rintro e w5 ⟨rfl, hb5'⟩; have hb5 := hbd.trans (hb5'.mono hbd.size))
            | ((with_reducible refine (H2.out _ hb5).mono ?_); rintro e w6 ⟨rfl, hb6'⟩; have hb6 := hb5.trans (hb6'.mono hb5.size))
            | ((with_reducible refine (H3.out _ hb6).mono ?_); rintro e w7 ⟨rfl, hb7'⟩; have hb7 := hb6.trans (hb7'.mono hb6.size))
            | ((with_reducible refine (H4.out _ hb7).mono ?_); rintro e w8 ⟨rfl, hb8'⟩; have hb8 := hb7.trans (hb8'.mono hb7.size)))
        have hr1 : PlI w p q m2 L2 (.int .i64 0) w8 := ⟨0, Nat.zero_le _, rfl, HTW.out.quiet hb8⟩
        clear x0 x1 hbd hb5 hb5' hb6 hb6' hb7 hb7' hb8 hb8' H1 H2 H3 H4 HX0 HX1 HTW t1 t2 t3
        go_wp2
        go_loopw [19, 20, 21, 22, 23] (fun i _ _ _ _ wr => PlI w p q m2 L2 i wr) (fun i _ _ _ _ _ => ln + 2 - (intOf i).toNat)
        case atStart => exact hr1
        case round =>
          clear hr1
          obtain ⟨j, hj, rfl, hH⟩ := hrel
          rw [← HLN.out] at hj
          obtain ⟨S1, hDT⟩ := hH.dt
          obtain ⟨T1, hRT⟩ := hH.rt
          obtain ⟨⟨A8, c8, hh8, _⟩, _⟩ := id hRT
          rw [← HLN.out] at hh8
          have x1 : wr.cell? ⟨q, 1, none⟩ = some (.slice A8 ln c8) := cell_of_row _ q 1 _ 45 _ hh8
          have HH := Lib.hid hH
          clear hh8 hRT hH
          by_cases hjl : j ≤ ln + 1
          · have ji : (j : Int) ≤ (ln : Int) + 1 := by omega
            have hgf := dget_f wr S1 p m2 L2 (j : Int) (HR.out _ HH.out.below) hDT (by unfold Rng; omega)
            obtain ⟨G, hG⟩ : ∃ G, G = getL L2 (j : Int) := ⟨_, rfl⟩
            rw [← hG] at hgf
            have HG := Lib.hid hG
            obtain ⟨⟨X, Y, Z⟩, B⟩ := G
            replace hgf := Lib.hid hgf
            clear hDT hG
            go_wp2_with fail
            with_reducible refine (hgf.out).mono ?_
            rintro e w5 ⟨rfl, hb5⟩
            simp only []
            obtain ⟨wb, hwb⟩ : ∃ wb, wb = w5.alloc (.cells #[.string X, .string Y, .bool Z] 33) := ⟨_, rfl⟩
            obtain ⟨gx, hgx⟩ : ∃ gx, gx = w5.heap.size := ⟨_, rfl⟩
            have hbx : Below wr.heap.size wr wb := by rw [hwb]; exact hb5.alloc hb5.size _
            have hhx : wb.heap[gx]? = some (.cells #[.string X, .string Y, .bool Z] 33) := by rw [hwb, hgx]; exact heap_alloc_new w5 _
            have hgxl : gx < wb.heap.size := by rw [hwb, hgx]; simp
            have hHb := HH.out.quiet hbx
            obtain ⟨T, hRT⟩ := hHb.rt
            have hrf := rtget_any wb T q m2 L2 (j : Int) hRT (by omega)
            rw [← HG.out] at hrf
            rw [hwb] at hrf
            replace hrf := Lib.hid hrf
            clear x1 hgf hRT
            go_wp2_with fail
            with_reducible refine (hrf.out).mono ?_
            rw [← hwb]
            rintro e w6 ⟨rfl, hb6⟩
            simp only []
            rw [← hgx]
            clear hrf hwb hgx
            have hb7 : Below wb.heap.size wb (w6.alloc (.cells #[.string X, .string Y, .bool Z] 33)) := hb6.alloc hb6.size _
            have hhx2 := (hb7.block gx hgxl).trans hhx
            have hZ := hHb.quiet hb7
            have y0 : (w6.alloc (.cells #[.string X, .string Y, .bool Z] 33)).cell? ⟨gx, 0, none⟩ = some (.string X) := cell_of_row _ gx 0 _ 33 _ hhx2
            have y1 : (w6.alloc (.cells #[.string X, .string Y, .bool Z] 33)).cell? ⟨gx, 1, none⟩ = some (.string Y) := cell_of_row _ gx 1 _ 33 _ hhx2
            have y2 : (w6.alloc (.cells #[.string X, .string Y, .bool Z] 33)).cell? ⟨gx, 2, none⟩ = some (.bool Z) := cell_of_row _ gx 2 _ 33 _ hhx2
            clear hhx2 hb7 hHb hb6 hhx hgxl hbx hb5
            go_wp2
            go_roundw
            case rel => exact ⟨j + 1, by have := HLN.out; omega, by go_num, hZ⟩
            case measure => simp [intOf]; omega
          · have ji : ¬ (j : Int) ≤ (ln : Int) + 1 := by omega
            have hZ := HH.out
            clear hDT
            go_wp2
            go_roundw
            case rel => exact ⟨k + 1, m2, L2, by omega, by go_num, hZ⟩
            case measure => simp [intOf]; omega
    · obtain rfl : k = n := by omega
      have ki : ¬ (k : Int) < (k : Int) := by omega
      have HF2 := Lib.hid (first_any wr (HR.out _ hH.below))
      have hb9 := hH.below
      clear hH
      go_wp2_with fail
      with_reducible refine (HF2.out).mono ?_
      rintro e w4 ⟨rfl, hbn⟩
      have hb4 := hb9.trans (hbn.mono hb9.size)
      go_wp2_with fail
      go_ret
      exact ⟨rfl, hb4⟩
theorem walk (mo : Int) (A : Option Addr) (l : List Opn) (c : Nat) (w : World) (hR : Rdy w) (hA : AtO w w.heap.size A l) (hok : ∀ q ∈ l, q.fit) :
    Calls Try.prog 3 #[.int .i64 mo, .slice A l.length c] w (Yes w) := by
  have hfit : ∀ q ∈ l, q.fld.fit := fun q hq => by
    have := (hok q hq).2.2
    unfold maxLen at this
    exact ⟨by omega, by omega⟩
  cases hf : few7 l with
  | false => exact walk_not mo A l _ c w hR hA rfl hfit hf
  | true =>
    by_cases hmo : 0 ≤ mo ∧ mo ≤ 4096
    · obtain ⟨m, rfl⟩ : ∃ v : Nat, mo = (v : Int) := ⟨mo.toNat, by omega⟩
      exact walk_few m A l _ c w hR hA rfl hok hf (by omega)
    · exact walk_no mo A l _ c w hR hA rfl hfit hf (by omega)
end dynPlays
end Go.Proofs.Ytjohchedckmadaa
