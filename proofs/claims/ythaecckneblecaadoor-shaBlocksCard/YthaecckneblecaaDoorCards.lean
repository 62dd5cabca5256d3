/-
  DERIVED. GIVEN WITH THE SEED: THE CARDS: each row of YthaecckneblecaaDoorRows.lean that lists a variable, with what it lists TIED to the program's text (the seventh form; the later family's looks); each row that meets fmt, with fmt's text TOLD by the authors' own Lean function (tested against real Go, not proved from fmt's source: count such statements apart). THE CARD IS WHAT COUNTS. Prove the row's statement (the work); the ties are given (YthaecckneblecaaDoorTie.lean); close each card by the builder's one call (the guide's Derived/Test/ToyasCard.lean, 'card_holds'). Laid BY PROGRAM, IN A SANDBOX (cutbox-door.mjs). By AI agents, Wed Nov 11 2026. No macro, syntax, notation, axiom, sorry.
-/
import Derived.Test.YthaecckneblecaaDoorRows
import GoSem.ClaimSeven
namespace Go.Proofs.YthaecckneblecaaDoor
namespace Rows

/-- THE TIED CARD OF 'wlvlaw3.ShaTells'. -/
def shaTellsCard : Claim7 := { stood := { row := shaTellsRow, standIns := [], harness := (true, "49f9cc08ee9b641f6f38c9c905c1d8a058b6377c34e7407e40867af2676a575d"), looks := false }, kinds := [], alts := [], laidByText := true, laidKinds := [.data], laidTests := true, laidLooks := .later }
def ShaTellsCardSaid : Prop := Claim7.holds Tryd.pinned (.plain (OpenSpec.ofChange shaTellsSpec)) shaTellsCard

/-- THE TIED CARD OF 'wlvlaw3.ShaOwn'. -/
def shaOwnCard : Claim7 := { stood := { row := shaOwnRow, standIns := [], harness := (true, "49f9cc08ee9b641f6f38c9c905c1d8a058b6377c34e7407e40867af2676a575d"), looks := false }, kinds := [], alts := [], laidByText := true, laidKinds := [.data], laidTests := true, laidLooks := .later }
def ShaOwnCardSaid : Prop := Claim7.holds Tryd.pinned (.plain (OpenSpec.ofChange shaOwnSpec)) shaOwnCard

/-- THE TIED CARD OF 'wlvlaw3.ShaApart'. -/
def shaApartCard : Claim7 := { stood := { row := shaApartRow, standIns := [], harness := (true, "49f9cc08ee9b641f6f38c9c905c1d8a058b6377c34e7407e40867af2676a575d"), looks := false }, kinds := [], alts := [], laidByText := true, laidKinds := [.data], laidTests := true, laidLooks := .later }
def ShaApartCardSaid : Prop := Claim7.holds Tryd.pinned (.plain (OpenSpec.ofChange shaApartSpec)) shaApartCard

/-- THE TIED CARD OF 'wlvlaw3.ShaBlocks'. -/
def shaBlocksCard : Claim7 := { stood := { row := shaBlocksRow, standIns := [], harness := (true, "49f9cc08ee9b641f6f38c9c905c1d8a058b6377c34e7407e40867af2676a575d"), looks := false }, kinds := [], alts := [], laidByText := true, laidKinds := [.data], laidTests := true, laidLooks := .later }
def ShaBlocksCardSaid : Prop := Claim7.holds Tryd.pinned (.plain (OpenSpec.ofChange shaBlocksSpec)) shaBlocksCard

/-- THE SECOND FORM's CARD OF 'wlvlaw3.ShaTells'. -/
def shaTellsUptoCard : Claim7 := { stood := { row := shaTellsUptoRow, standIns := [], harness := (true, "49f9cc08ee9b641f6f38c9c905c1d8a058b6377c34e7407e40867af2676a575d"), looks := false }, kinds := [], alts := [], laidByText := true, laidKinds := [.data], laidTests := true, laidLooks := .later }
def ShaTellsUptoCardSaid : Prop := Claim7.holds Tryd.pinned (.plain (OpenSpec.upto shaTellsSpec)) shaTellsUptoCard

/-- THE SECOND FORM's CARD OF 'wlvlaw3.ShaOwn'. -/
def shaOwnUptoCard : Claim7 := { stood := { row := shaOwnUptoRow, standIns := [], harness := (true, "49f9cc08ee9b641f6f38c9c905c1d8a058b6377c34e7407e40867af2676a575d"), looks := false }, kinds := [], alts := [], laidByText := true, laidKinds := [.data], laidTests := true, laidLooks := .later }
def ShaOwnUptoCardSaid : Prop := Claim7.holds Tryd.pinned (.plain (OpenSpec.upto shaOwnSpec)) shaOwnUptoCard

/-- THE SECOND FORM's CARD OF 'wlvlaw3.ShaApart'. -/
def shaApartUptoCard : Claim7 := { stood := { row := shaApartUptoRow, standIns := [], harness := (true, "49f9cc08ee9b641f6f38c9c905c1d8a058b6377c34e7407e40867af2676a575d"), looks := false }, kinds := [], alts := [], laidByText := true, laidKinds := [.data], laidTests := true, laidLooks := .later }
def ShaApartUptoCardSaid : Prop := Claim7.holds Tryd.pinned (.plain (OpenSpec.upto shaApartSpec)) shaApartUptoCard

/-- THE SECOND FORM's CARD OF 'wlvlaw3.ShaBlocks'. -/
def shaBlocksUptoCard : Claim7 := { stood := { row := shaBlocksUptoRow, standIns := [], harness := (true, "49f9cc08ee9b641f6f38c9c905c1d8a058b6377c34e7407e40867af2676a575d"), looks := false }, kinds := [], alts := [], laidByText := true, laidKinds := [.data], laidTests := true, laidLooks := .later }
def ShaBlocksUptoCardSaid : Prop := Claim7.holds Tryd.pinned (.plain (OpenSpec.upto shaBlocksSpec)) shaBlocksUptoCard
end Rows
end Go.Proofs.YthaecckneblecaaDoor
