/- The faces' contracts of the landed frames: Put, Same; New, Feed, Next, Left (LFFeed, LFNext). -/
import Derived.Test.YtegcloapadippaaLFPut
import Derived.Test.YtegcloapadippaaLFNext
import Derived.Test.YtegcloapadippaaLFrm
namespace Go.Proofs.Ytegcloapadippaa
open Go.RowKit Fr

theorem fput_f (s : FrA) (w : World) (h : s.ok w w.heap.size) (hl : s.f.body.length ≤ 90000) : Calls Try.prog 10 #[frm s.f s.ad s.cap] w (FpPost w (put s.f)) :=
  fput_any s.f s.ad s.cap w (by omega) h.at' h.nil
theorem fsame_f (s t : FrA) (w : World) (h : s.ok w w.heap.size) (k : t.ok w w.heap.size) (_ : s.f.body.length ≤ 90000) (_ : t.f.body.length ≤ 90000) : Calls Try.prog 13 #[frm s.f s.ad s.cap, frm t.f t.ad t.cap] w (BoolPost w (same s.f t.f)) :=
  fsame_any s.f t.f s.ad t.ad s.cap t.cap w h.at' k.at' h.bytes k.bytes
end Go.Proofs.Ytegcloapadippaa
