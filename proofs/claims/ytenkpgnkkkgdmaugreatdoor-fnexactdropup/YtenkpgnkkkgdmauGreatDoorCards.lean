/-
  DERIVED. GIVEN WITH THE SEED: THE CARDS: each row of YtenkpgnkkkgdmauGreatDoorRows.lean that lists a variable, with what it lists TIED to the program's text (the seventh form; the later family's looks); each row that meets fmt, with fmt's text TOLD by the authors' own Lean function (tested against real Go, not proved from fmt's source: count such statements apart). THE CARD IS WHAT COUNTS. Prove the row's statement (the work); the ties are given (YtenkpgnkkkgdmauGreatDoorTie.lean); close each card by the builder's one call (the guide's Derived/Test/ToyasCard.lean, 'card_holds'). Laid BY PROGRAM, IN A SANDBOX (cutbox-door.mjs). By AI agents, Wed Nov 11 2026. No macro, syntax, notation, axiom, sorry.
-/
import Derived.Test.YtenkpgnkkkgdmauGreatDoorRows
import GoSem.ClaimSeven
namespace Go.Proofs.YtenkpgnkkkgdmauGreatDoor
namespace Rows

/-- THE TIED CARD OF 'laws.FnExactDoneUp'. -/
def fnExactDoneUpCard : Claim7 := { stood := { row := fnExactDoneUpRow, standIns := [], harness := (true, "443ddf404057c5f516a171c758dd05a64ead6f42489bd4fad56eb53e13c2c4b9"), looks := false }, kinds := [], alts := [], laidByText := true, laidKinds := [.data, .sentinel], laidTests := true, laidLooks := .later }
def FnExactDoneUpCardSaid : Prop := Claim7.holds Tryz.pinned (.plain (OpenSpec.ofChange fnExactDoneUpSpec)) fnExactDoneUpCard

/-- THE TIED CARD OF 'laws.FnExactDropUp'. -/
def fnExactDropUpCard : Claim7 := { stood := { row := fnExactDropUpRow, standIns := [], harness := (true, "443ddf404057c5f516a171c758dd05a64ead6f42489bd4fad56eb53e13c2c4b9"), looks := false }, kinds := [], alts := [], laidByText := true, laidKinds := [.data, .sentinel], laidTests := true, laidLooks := .later }
def FnExactDropUpCardSaid : Prop := Claim7.holds Tryz.pinned (.plain (OpenSpec.ofChange fnExactDropUpSpec)) fnExactDropUpCard

/-- THE TIED CARD OF 'laws.FnExactSyncStore'. -/
def fnExactSyncStoreCard : Claim7 := { stood := { row := fnExactSyncStoreRow, standIns := [], harness := (true, "443ddf404057c5f516a171c758dd05a64ead6f42489bd4fad56eb53e13c2c4b9"), looks := false }, kinds := [], alts := [], laidByText := true, laidKinds := [.data, .sentinel], laidTests := true, laidLooks := .later }
def FnExactSyncStoreCardSaid : Prop := Claim7.holds Tryz.pinned (.plain (OpenSpec.ofChange fnExactSyncStoreSpec)) fnExactSyncStoreCard

/-- THE SECOND FORM's CARD OF 'laws.FnExactDoneUp'. -/
def fnExactDoneUpUptoCard : Claim7 := { stood := { row := fnExactDoneUpUptoRow, standIns := [], harness := (true, "443ddf404057c5f516a171c758dd05a64ead6f42489bd4fad56eb53e13c2c4b9"), looks := false }, kinds := [], alts := [], laidByText := true, laidKinds := [.data, .sentinel], laidTests := true, laidLooks := .later }
def FnExactDoneUpUptoCardSaid : Prop := Claim7.holds Tryz.pinned (.plain (OpenSpec.upto fnExactDoneUpSpec)) fnExactDoneUpUptoCard

/-- THE SECOND FORM's CARD OF 'laws.FnExactDropUp'. -/
def fnExactDropUpUptoCard : Claim7 := { stood := { row := fnExactDropUpUptoRow, standIns := [], harness := (true, "443ddf404057c5f516a171c758dd05a64ead6f42489bd4fad56eb53e13c2c4b9"), looks := false }, kinds := [], alts := [], laidByText := true, laidKinds := [.data, .sentinel], laidTests := true, laidLooks := .later }
def FnExactDropUpUptoCardSaid : Prop := Claim7.holds Tryz.pinned (.plain (OpenSpec.upto fnExactDropUpSpec)) fnExactDropUpUptoCard

/-- THE SECOND FORM's CARD OF 'laws.FnExactSyncStore'. -/
def fnExactSyncStoreUptoCard : Claim7 := { stood := { row := fnExactSyncStoreUptoRow, standIns := [], harness := (true, "443ddf404057c5f516a171c758dd05a64ead6f42489bd4fad56eb53e13c2c4b9"), looks := false }, kinds := [], alts := [], laidByText := true, laidKinds := [.data, .sentinel], laidTests := true, laidLooks := .later }
def FnExactSyncStoreUptoCardSaid : Prop := Claim7.holds Tryz.pinned (.plain (OpenSpec.upto fnExactSyncStoreSpec)) fnExactSyncStoreUptoCard
end Rows
end Go.Proofs.YtenkpgnkkkgdmauGreatDoor
