/-
  DERIVED. GIVEN WITH THE SEED: THE CARDS: each row of YtlnppbnbjeakhaaDoorRows.lean that lists a variable, with what it lists TIED to the program's text (the seventh form; the later family's looks); each row that meets fmt, with fmt's text TOLD by the authors' own Lean function (tested against real Go, not proved from fmt's source: count such statements apart). THE CARD IS WHAT COUNTS. Prove the row's statement (the work); the ties are given (YtlnppbnbjeakhaaDoorTie.lean); close each card by the builder's one call (the guide's Derived/Test/ToyasCard.lean, 'card_holds'). Laid BY PROGRAM, IN A SANDBOX (cutbox-door.mjs). By AI agents, Wed Nov 11 2026. No macro, syntax, notation, axiom, sorry.
-/
import Derived.Test.YtlnppbnbjeakhaaDoorRows
import GoSem.ClaimSeven
namespace Go.Proofs.YtlnppbnbjeakhaaDoor
namespace Rows

/-- THE TIED CARD OF 'wlvlaw8.UnpackPlays'. -/
def unpackPlaysCard : Claim7 := { stood := { row := unpackPlaysRow, standIns := [], harness := (true, "271d6d10cfb4d3f0998dd9257c8105f84b8deb7ff8c7614ad4b9991d852932ce"), looks := false }, kinds := [], alts := [], laidByText := true, laidKinds := [.data], laidTests := true, laidLooks := .later }
def UnpackPlaysCardSaid : Prop := Claim7.holds Tryd.pinned (.plain (OpenSpec.ofChange unpackPlaysSpec)) unpackPlaysCard

/-- THE TIED CARD OF 'wlvlaw8.UnpackTable'. -/
def unpackTableCard : Claim7 := { stood := { row := unpackTableRow, standIns := [], harness := (true, "271d6d10cfb4d3f0998dd9257c8105f84b8deb7ff8c7614ad4b9991d852932ce"), looks := false }, kinds := [], alts := [], laidByText := true, laidKinds := [.data], laidTests := true, laidLooks := .later }
def UnpackTableCardSaid : Prop := Claim7.holds Tryd.pinned (.plain (OpenSpec.ofChange unpackTableSpec)) unpackTableCard

/-- THE TIED CARD OF 'wlvlaw8.UnpackStatic'. -/
def unpackStaticCard : Claim7 := { stood := { row := unpackStaticRow, standIns := [], harness := (true, "271d6d10cfb4d3f0998dd9257c8105f84b8deb7ff8c7614ad4b9991d852932ce"), looks := false }, kinds := [], alts := [], laidByText := true, laidKinds := [.data], laidTests := true, laidLooks := .later }
def UnpackStaticCardSaid : Prop := Claim7.holds Tryd.pinned (.plain (OpenSpec.ofChange unpackStaticSpec)) unpackStaticCard

/-- THE TIED CARD OF 'wlvlaw8.UnpackAdds'. -/
def unpackAddsCard : Claim7 := { stood := { row := unpackAddsRow, standIns := [], harness := (true, "271d6d10cfb4d3f0998dd9257c8105f84b8deb7ff8c7614ad4b9991d852932ce"), looks := false }, kinds := [], alts := [], laidByText := true, laidKinds := [.data], laidTests := true, laidLooks := .later }
def UnpackAddsCardSaid : Prop := Claim7.holds Tryd.pinned (.plain (OpenSpec.ofChange unpackAddsSpec)) unpackAddsCard

/-- THE TIED CARD OF 'wlvlaw8.UnpackLimits'. -/
def unpackLimitsCard : Claim7 := { stood := { row := unpackLimitsRow, standIns := [], harness := (true, "271d6d10cfb4d3f0998dd9257c8105f84b8deb7ff8c7614ad4b9991d852932ce"), looks := false }, kinds := [], alts := [], laidByText := true, laidKinds := [.data], laidTests := true, laidLooks := .later }
def UnpackLimitsCardSaid : Prop := Claim7.holds Tryd.pinned (.plain (OpenSpec.ofChange unpackLimitsSpec)) unpackLimitsCard

/-- THE SECOND FORM's CARD OF 'wlvlaw8.UnpackPlays'. -/
def unpackPlaysUptoCard : Claim7 := { stood := { row := unpackPlaysUptoRow, standIns := [], harness := (true, "271d6d10cfb4d3f0998dd9257c8105f84b8deb7ff8c7614ad4b9991d852932ce"), looks := false }, kinds := [], alts := [], laidByText := true, laidKinds := [.data], laidTests := true, laidLooks := .later }
def UnpackPlaysUptoCardSaid : Prop := Claim7.holds Tryd.pinned (.plain (OpenSpec.upto unpackPlaysSpec)) unpackPlaysUptoCard

/-- THE SECOND FORM's CARD OF 'wlvlaw8.UnpackTable'. -/
def unpackTableUptoCard : Claim7 := { stood := { row := unpackTableUptoRow, standIns := [], harness := (true, "271d6d10cfb4d3f0998dd9257c8105f84b8deb7ff8c7614ad4b9991d852932ce"), looks := false }, kinds := [], alts := [], laidByText := true, laidKinds := [.data], laidTests := true, laidLooks := .later }
def UnpackTableUptoCardSaid : Prop := Claim7.holds Tryd.pinned (.plain (OpenSpec.upto unpackTableSpec)) unpackTableUptoCard

/-- THE SECOND FORM's CARD OF 'wlvlaw8.UnpackStatic'. -/
def unpackStaticUptoCard : Claim7 := { stood := { row := unpackStaticUptoRow, standIns := [], harness := (true, "271d6d10cfb4d3f0998dd9257c8105f84b8deb7ff8c7614ad4b9991d852932ce"), looks := false }, kinds := [], alts := [], laidByText := true, laidKinds := [.data], laidTests := true, laidLooks := .later }
def UnpackStaticUptoCardSaid : Prop := Claim7.holds Tryd.pinned (.plain (OpenSpec.upto unpackStaticSpec)) unpackStaticUptoCard

/-- THE SECOND FORM's CARD OF 'wlvlaw8.UnpackAdds'. -/
def unpackAddsUptoCard : Claim7 := { stood := { row := unpackAddsUptoRow, standIns := [], harness := (true, "271d6d10cfb4d3f0998dd9257c8105f84b8deb7ff8c7614ad4b9991d852932ce"), looks := false }, kinds := [], alts := [], laidByText := true, laidKinds := [.data], laidTests := true, laidLooks := .later }
def UnpackAddsUptoCardSaid : Prop := Claim7.holds Tryd.pinned (.plain (OpenSpec.upto unpackAddsSpec)) unpackAddsUptoCard

/-- THE SECOND FORM's CARD OF 'wlvlaw8.UnpackLimits'. -/
def unpackLimitsUptoCard : Claim7 := { stood := { row := unpackLimitsUptoRow, standIns := [], harness := (true, "271d6d10cfb4d3f0998dd9257c8105f84b8deb7ff8c7614ad4b9991d852932ce"), looks := false }, kinds := [], alts := [], laidByText := true, laidKinds := [.data], laidTests := true, laidLooks := .later }
def UnpackLimitsUptoCardSaid : Prop := Claim7.holds Tryd.pinned (.plain (OpenSpec.upto unpackLimitsSpec)) unpackLimitsUptoCard
end Rows
end Go.Proofs.YtlnppbnbjeakhaaDoor
