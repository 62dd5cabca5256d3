/- The landed Next: the scope; what holds at its label. -/
import Derived.Test.YtegcloapadippaaLFDrop
import Derived.Test.YtegcloapadippaaLScope
import Derived.Test.YtegcloapadippaaFPlain
namespace Go.Proofs.Ytegcloapadippaa
open Go.RowKit Fr

/-- A scope with one label, to which no pass comes back. -/
theorem wp_scope_end {P : Program} {a : Act} {w : World} {Q : Exit → Act → World → Prop} {c rest : Code} (l : Nat) (J : Act → World → Prop) (hf : findLabel c l = some rest)
    (pass : ∀ a w, J a w → rest.wp P (jumpsTo (fun _ _ _ => False) Q) a w) (first : c.wp P (jumpsTo (fun l' a' w' => l' = l ∧ J a' w') Q) a w) : (Code.scope c).wp P Q a w :=
  wp_scope_many (fun l' a w => l' = l ∧ J a w) (fun _ _ _ => 0) first (fun l' a w h => ⟨rest, by rw [h.1]; exact hf, Code.wp_mono (fun e a' w' hq => by
    cases e <;> first | exact hq | exact hq.elim) (pass a w h.2)⟩)
/-- Next's frame at its label; u: the slots that count no more. -/
def NFr (p r : Nat) (a : Act) : Prop :=
  ∃ u : Nat → Value, a = { tmps := #[.pointer (some ⟨p, 0, none⟩), u 1, .pointer (some ⟨r, 0, none⟩), u 3, u 4, u 5, u 6, u 7, u 8, u 9, u 10, u 11, u 12, u 13, u 14, u 15, u 16, u 17, u 18, u 19, u 20, u 21, u 22, u 23, u 24, u 25, u 26, u 27, u 28, u 29, u 30, u 31, u 32, u 33, u 34, u 35, u 36, u 37, u 38, u 39, u 40, u 41, u 42, u 43, u 44, u 45, u 46, u 47, u 48, u 49, u 50, u 51, u 52, u 53, u 54, u 55, u 56, u 57, u 58, u 59, u 60, u 61, u 62, u 63, u 64, u 65, u 66, u 67, u 68, u 69, u 70, u 71, u 72, u 73, u 74, u 75, u 76, u 77, u 78, u 79, u 80, u 81, u 82, u 83, u 84, u 85, u 86, u 87, u 88, u 89, u 90, u 91, u 92], defers := [] }
set_option maxRecDepth 100000 in
theorem NFr.mk {p r : Nat} {u1 u3 u4 u5 u6 u7 u8 u9 u10 u11 u12 u13 u14 u15 u16 u17 u18 u19 u20 u21 u22 u23 u24 u25 u26 u27 u28 u29 u30 u31 u32 u33 u34 u35 u36 u37 u38 u39 u40 u41 u42 u43 u44 u45 u46 u47 u48 u49 u50 u51 u52 u53 u54 u55 u56 u57 u58 u59 u60 u61 u62 u63 u64 u65 u66 u67 u68 u69 u70 u71 u72 u73 u74 u75 u76 u77 u78 u79 u80 u81 u82 u83 u84 u85 u86 u87 u88 u89 u90 u91 u92 : Value} : NFr p r { tmps := #[.pointer (some ⟨p, 0, none⟩), u1, .pointer (some ⟨r, 0, none⟩), u3, u4, u5, u6, u7, u8, u9, u10, u11, u12, u13, u14, u15, u16, u17, u18, u19, u20, u21, u22, u23, u24, u25, u26, u27, u28, u29, u30, u31, u32, u33, u34, u35, u36, u37, u38, u39, u40, u41, u42, u43, u44, u45, u46, u47, u48, u49, u50, u51, u52, u53, u54, u55, u56, u57, u58, u59, u60, u61, u62, u63, u64, u65, u66, u67, u68, u69, u70, u71, u72, u73, u74, u75, u76, u77, u78, u79, u80, u81, u82, u83, u84, u85, u86, u87, u88, u89, u90, u91, u92], defers := [] } :=
  ⟨fun i => (#[undef, u1, undef, u3, u4, u5, u6, u7, u8, u9, u10, u11, u12, u13, u14, u15, u16, u17, u18, u19, u20, u21, u22, u23, u24, u25, u26, u27, u28, u29, u30, u31, u32, u33, u34, u35, u36, u37, u38, u39, u40, u41, u42, u43, u44, u45, u46, u47, u48, u49, u50, u51, u52, u53, u54, u55, u56, u57, u58, u59, u60, u61, u62, u63, u64, u65, u66, u67, u68, u69, u70, u71, u72, u73, u74, u75, u76, u77, u78, u79, u80, u81, u82, u83, u84, u85, u86, u87, u88, u89, u90, u91, u92] : Array Value).getD i undef, rfl⟩
end Go.Proofs.Ytegcloapadippaa
