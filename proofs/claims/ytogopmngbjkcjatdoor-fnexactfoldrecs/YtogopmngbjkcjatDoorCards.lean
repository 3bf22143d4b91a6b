/-
  DERIVED. GIVEN WITH THE SEED: THE CARDS: each row of YtogopmngbjkcjatDoorRows.lean that lists a variable, with what it lists TIED to the program's text (the seventh form; the later family's looks); each row that meets fmt, with fmt's text TOLD by the authors' own Lean function (tested against real Go, not proved from fmt's source: count such statements apart). THE CARD IS WHAT COUNTS. Prove the row's statement (the work); the ties are given (YtogopmngbjkcjatDoorTie.lean); close each card by the builder's one call (the guide's Derived/Test/ToyasCard.lean, 'card_holds'). Laid BY PROGRAM, IN A SANDBOX (cutbox-door.mjs). By AI agents, Wed Nov 11 2026. No macro, syntax, notation, axiom, sorry.
-/
import Derived.Test.YtogopmngbjkcjatDoorRows
import GoSem.ClaimSeven
namespace Go.Proofs.YtogopmngbjkcjatDoor
namespace Rows

/-- THE TIED CARD OF 'laws.FnExactTopEpoch'. -/
def fnExactTopEpochCard : Claim7 := { stood := { row := fnExactTopEpochRow, standIns := [], harness := (true, "e201c4cc8feb60c16e1c07767c9f0c5c7724beb264763ea3586ef8b944b395c3"), looks := false }, kinds := [], alts := [], laidByText := true, laidKinds := [.data], laidTests := true, laidLooks := .later }
def FnExactTopEpochCardSaid : Prop := Claim7.holds Tryd.pinned (.plain (OpenSpec.ofChange fnExactTopEpochSpec)) fnExactTopEpochCard

/-- THE TIED CARD OF 'laws.FnExactFoldRecs'. -/
def fnExactFoldRecsCard : Claim7 := { stood := { row := fnExactFoldRecsRow, standIns := [], harness := (true, "e201c4cc8feb60c16e1c07767c9f0c5c7724beb264763ea3586ef8b944b395c3"), looks := false }, kinds := [], alts := [], laidByText := true, laidKinds := [.sentinel], laidTests := true, laidLooks := .later }
def FnExactFoldRecsCardSaid : Prop := Claim7.holds Tryd.pinned (.plain (OpenSpec.ofChange fnExactFoldRecsSpec)) fnExactFoldRecsCard

/-- THE TIED CARD OF 'laws.FnExactStoreOk'. -/
def fnExactStoreOkCard : Claim7 := { stood := { row := fnExactStoreOkRow, standIns := [], harness := (true, "e201c4cc8feb60c16e1c07767c9f0c5c7724beb264763ea3586ef8b944b395c3"), looks := false }, kinds := [], alts := [], laidByText := true, laidKinds := [.data, .sentinel], laidTests := true, laidLooks := .later }
def FnExactStoreOkCardSaid : Prop := Claim7.holds Tryd.pinned (.plain (OpenSpec.ofChange fnExactStoreOkSpec)) fnExactStoreOkCard

/-- THE SECOND FORM's CARD OF 'laws.FnExactTopEpoch'. -/
def fnExactTopEpochUptoCard : Claim7 := { stood := { row := fnExactTopEpochUptoRow, standIns := [], harness := (true, "e201c4cc8feb60c16e1c07767c9f0c5c7724beb264763ea3586ef8b944b395c3"), looks := false }, kinds := [], alts := [], laidByText := true, laidKinds := [.data], laidTests := true, laidLooks := .later }
def FnExactTopEpochUptoCardSaid : Prop := Claim7.holds Tryd.pinned (.plain (OpenSpec.upto fnExactTopEpochSpec)) fnExactTopEpochUptoCard

/-- THE SECOND FORM's CARD OF 'laws.FnExactFoldRecs'. -/
def fnExactFoldRecsUptoCard : Claim7 := { stood := { row := fnExactFoldRecsUptoRow, standIns := [], harness := (true, "e201c4cc8feb60c16e1c07767c9f0c5c7724beb264763ea3586ef8b944b395c3"), looks := false }, kinds := [], alts := [], laidByText := true, laidKinds := [.sentinel], laidTests := true, laidLooks := .later }
def FnExactFoldRecsUptoCardSaid : Prop := Claim7.holds Tryd.pinned (.plain (OpenSpec.upto fnExactFoldRecsSpec)) fnExactFoldRecsUptoCard

/-- THE SECOND FORM's CARD OF 'laws.FnExactStoreOk'. -/
def fnExactStoreOkUptoCard : Claim7 := { stood := { row := fnExactStoreOkUptoRow, standIns := [], harness := (true, "e201c4cc8feb60c16e1c07767c9f0c5c7724beb264763ea3586ef8b944b395c3"), looks := false }, kinds := [], alts := [], laidByText := true, laidKinds := [.data, .sentinel], laidTests := true, laidLooks := .later }
def FnExactStoreOkUptoCardSaid : Prop := Claim7.holds Tryd.pinned (.plain (OpenSpec.upto fnExactStoreOkSpec)) fnExactStoreOkUptoCard
end Rows
end Go.Proofs.YtogopmngbjkcjatDoor
