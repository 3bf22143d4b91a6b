/-
  DERIVED. GIVEN WITH THE SEED: THE CARDS: each row of YtogopmngbjkcjafDoorRows.lean that lists a variable, with what it lists TIED to the program's text (the seventh form; the later family's looks); each row that meets fmt, with fmt's text TOLD by the authors' own Lean function (tested against real Go, not proved from fmt's source: count such statements apart). THE CARD IS WHAT COUNTS. Prove the row's statement (the work); the ties are given (YtogopmngbjkcjafDoorTie.lean); close each card by the builder's one call (the guide's Derived/Test/ToyasCard.lean, 'card_holds'). Laid BY PROGRAM, IN A SANDBOX (cutbox-door.mjs). By AI agents, Wed Nov 11 2026. No macro, syntax, notation, axiom, sorry.
-/
import Derived.Test.YtogopmngbjkcjafDoorRows
import GoSem.ClaimSeven
namespace Go.Proofs.YtogopmngbjkcjafDoor
namespace Rows

/-- THE TIED CARD OF 'laws.FnFolded'. -/
def fnFoldedCard : Claim7 := { stood := { row := fnFoldedRow, standIns := [], harness := (true, "74cc94c93d63a8ec51ca8ebfa62c14a633fb9740e87267679c71b3b9e70f32a0"), looks := false }, kinds := [], alts := [], laidByText := true, laidKinds := [.sentinel], laidTests := true, laidLooks := .later }
def FnFoldedCardSaid : Prop := Claim7.holds Tryd.pinned (.plain (OpenSpec.ofChange fnFoldedSpec)) fnFoldedCard

/-- THE SECOND FORM's CARD OF 'laws.FnFolded'. -/
def fnFoldedUptoCard : Claim7 := { stood := { row := fnFoldedUptoRow, standIns := [], harness := (true, "74cc94c93d63a8ec51ca8ebfa62c14a633fb9740e87267679c71b3b9e70f32a0"), looks := false }, kinds := [], alts := [], laidByText := true, laidKinds := [.sentinel], laidTests := true, laidLooks := .later }
def FnFoldedUptoCardSaid : Prop := Claim7.holds Tryd.pinned (.plain (OpenSpec.upto fnFoldedSpec)) fnFoldedUptoCard
end Rows
end Go.Proofs.YtogopmngbjkcjafDoor
