/-
  DERIVED. GIVEN WITH THE SEED: THE CARDS: each row of YtpoffmnaoohkpaaDoorRows.lean that lists a variable, with what it lists TIED to the program's text (the seventh form; the later family's looks); each row that meets fmt, with fmt's text TOLD by the authors' own Lean function (tested against real Go, not proved from fmt's source: count such statements apart). THE CARD IS WHAT COUNTS. Prove the row's statement (the work); the ties are given (YtpoffmnaoohkpaaDoorTie.lean); close each card by the builder's one call (the guide's Derived/Test/ToyasCard.lean, 'card_holds'). Laid BY PROGRAM, IN A SANDBOX (cutbox-door.mjs). By AI agents, Wed Nov 11 2026. No macro, syntax, notation, axiom, sorry.
-/
import Derived.Test.YtpoffmnaoohkpaaDoorRows
import GoSem.ClaimSeven
namespace Go.Proofs.YtpoffmnaoohkpaaDoor
namespace Rows

/-- THE TIED CARD OF 'wlvlaw4.HuffTells'. -/
def huffTellsCard : Claim7 := { stood := { row := huffTellsRow, standIns := [], harness := (true, "89006932395498dade2474d510d023108f4189a7daf6d4083a6b112518fdbe19"), looks := false }, kinds := [], alts := [], laidByText := true, laidKinds := [.data], laidTests := true, laidLooks := .later }
def HuffTellsCardSaid : Prop := Claim7.holds Tryd.pinned (.plain (OpenSpec.ofChange huffTellsSpec)) huffTellsCard

/-- THE TIED CARD OF 'wlvlaw4.HuffBack'. -/
def huffBackCard : Claim7 := { stood := { row := huffBackRow, standIns := [], harness := (true, "89006932395498dade2474d510d023108f4189a7daf6d4083a6b112518fdbe19"), looks := false }, kinds := [], alts := [], laidByText := true, laidKinds := [.data], laidTests := true, laidLooks := .later }
def HuffBackCardSaid : Prop := Claim7.holds Tryd.pinned (.plain (OpenSpec.ofChange huffBackSpec)) huffBackCard

/-- THE TIED CARD OF 'wlvlaw4.HuffJoins'. -/
def huffJoinsCard : Claim7 := { stood := { row := huffJoinsRow, standIns := [], harness := (true, "89006932395498dade2474d510d023108f4189a7daf6d4083a6b112518fdbe19"), looks := false }, kinds := [], alts := [], laidByText := true, laidKinds := [.data], laidTests := true, laidLooks := .later }
def HuffJoinsCardSaid : Prop := Claim7.holds Tryd.pinned (.plain (OpenSpec.ofChange huffJoinsSpec)) huffJoinsCard

/-- THE TIED CARD OF 'wlvlaw4.HuffEnds'. -/
def huffEndsCard : Claim7 := { stood := { row := huffEndsRow, standIns := [], harness := (true, "89006932395498dade2474d510d023108f4189a7daf6d4083a6b112518fdbe19"), looks := false }, kinds := [], alts := [], laidByText := true, laidKinds := [.data], laidTests := true, laidLooks := .later }
def HuffEndsCardSaid : Prop := Claim7.holds Tryd.pinned (.plain (OpenSpec.ofChange huffEndsSpec)) huffEndsCard

/-- THE TIED CARD OF 'wlvlaw4.HuffLong'. -/
def huffLongCard : Claim7 := { stood := { row := huffLongRow, standIns := [], harness := (true, "89006932395498dade2474d510d023108f4189a7daf6d4083a6b112518fdbe19"), looks := false }, kinds := [], alts := [], laidByText := true, laidKinds := [.data], laidTests := true, laidLooks := .later }
def HuffLongCardSaid : Prop := Claim7.holds Tryd.pinned (.plain (OpenSpec.ofChange huffLongSpec)) huffLongCard

/-- THE SECOND FORM's CARD OF 'wlvlaw4.HuffTells'. -/
def huffTellsUptoCard : Claim7 := { stood := { row := huffTellsUptoRow, standIns := [], harness := (true, "89006932395498dade2474d510d023108f4189a7daf6d4083a6b112518fdbe19"), looks := false }, kinds := [], alts := [], laidByText := true, laidKinds := [.data], laidTests := true, laidLooks := .later }
def HuffTellsUptoCardSaid : Prop := Claim7.holds Tryd.pinned (.plain (OpenSpec.upto huffTellsSpec)) huffTellsUptoCard

/-- THE SECOND FORM's CARD OF 'wlvlaw4.HuffBack'. -/
def huffBackUptoCard : Claim7 := { stood := { row := huffBackUptoRow, standIns := [], harness := (true, "89006932395498dade2474d510d023108f4189a7daf6d4083a6b112518fdbe19"), looks := false }, kinds := [], alts := [], laidByText := true, laidKinds := [.data], laidTests := true, laidLooks := .later }
def HuffBackUptoCardSaid : Prop := Claim7.holds Tryd.pinned (.plain (OpenSpec.upto huffBackSpec)) huffBackUptoCard

/-- THE SECOND FORM's CARD OF 'wlvlaw4.HuffJoins'. -/
def huffJoinsUptoCard : Claim7 := { stood := { row := huffJoinsUptoRow, standIns := [], harness := (true, "89006932395498dade2474d510d023108f4189a7daf6d4083a6b112518fdbe19"), looks := false }, kinds := [], alts := [], laidByText := true, laidKinds := [.data], laidTests := true, laidLooks := .later }
def HuffJoinsUptoCardSaid : Prop := Claim7.holds Tryd.pinned (.plain (OpenSpec.upto huffJoinsSpec)) huffJoinsUptoCard

/-- THE SECOND FORM's CARD OF 'wlvlaw4.HuffEnds'. -/
def huffEndsUptoCard : Claim7 := { stood := { row := huffEndsUptoRow, standIns := [], harness := (true, "89006932395498dade2474d510d023108f4189a7daf6d4083a6b112518fdbe19"), looks := false }, kinds := [], alts := [], laidByText := true, laidKinds := [.data], laidTests := true, laidLooks := .later }
def HuffEndsUptoCardSaid : Prop := Claim7.holds Tryd.pinned (.plain (OpenSpec.upto huffEndsSpec)) huffEndsUptoCard

/-- THE SECOND FORM's CARD OF 'wlvlaw4.HuffLong'. -/
def huffLongUptoCard : Claim7 := { stood := { row := huffLongUptoRow, standIns := [], harness := (true, "89006932395498dade2474d510d023108f4189a7daf6d4083a6b112518fdbe19"), looks := false }, kinds := [], alts := [], laidByText := true, laidKinds := [.data], laidTests := true, laidLooks := .later }
def HuffLongUptoCardSaid : Prop := Claim7.holds Tryd.pinned (.plain (OpenSpec.upto huffLongSpec)) huffLongUptoCard
end Rows
end Go.Proofs.YtpoffmnaoohkpaaDoor
