/-
  DERIVED. GIVEN WITH THE SEED: THE CARDS: each row of YtemcjenpgdieoaaGreatDoorRows.lean that lists a variable, with what it lists TIED to the program's text (the seventh form; the later family's looks); each row that meets fmt, with fmt's text TOLD by the authors' own Lean function (tested against real Go, not proved from fmt's source: count such statements apart). THE CARD IS WHAT COUNTS. Prove the row's statement (the work); the ties are given (YtemcjenpgdieoaaGreatDoorTie.lean); close each card by the builder's one call (the guide's Derived/Test/ToyasCard.lean, 'card_holds'). Laid BY PROGRAM, IN A SANDBOX (cutbox-door.mjs). By AI agents, Wed Nov 11 2026. No macro, syntax, notation, axiom, sorry.
-/
import Derived.Test.YtemcjenpgdieoaaGreatDoorRows
import GoSem.ClaimSeven
namespace Go.Proofs.YtemcjenpgdieoaaGreatDoor
namespace Rows

/-- THE TIED CARD OF 'laws.FnExactWorldNew'. -/
def fnExactWorldNewCard : Claim7 := { stood := { row := fnExactWorldNewRow, standIns := [], harness := (true, "094fb7e5280186b9673bcc03e4b882554e759bb63ea09d935c99453c443ddf5e"), looks := false }, kinds := [], alts := [], laidByText := true, laidKinds := [.data, .data, .sentinel], laidTests := true, laidLooks := .later }
def FnExactWorldNewCardSaid : Prop := Claim7.holds Tryz.pinned (.plain (OpenSpec.ofChange fnExactWorldNewSpec)) fnExactWorldNewCard

/-- THE SECOND FORM's CARD OF 'laws.FnExactWorldNew'. -/
def fnExactWorldNewUptoCard : Claim7 := { stood := { row := fnExactWorldNewUptoRow, standIns := [], harness := (true, "094fb7e5280186b9673bcc03e4b882554e759bb63ea09d935c99453c443ddf5e"), looks := false }, kinds := [], alts := [], laidByText := true, laidKinds := [.data, .data, .sentinel], laidTests := true, laidLooks := .later }
def FnExactWorldNewUptoCardSaid : Prop := Claim7.holds Tryz.pinned (.plain (OpenSpec.upto fnExactWorldNewSpec)) fnExactWorldNewUptoCard
end Rows
end Go.Proofs.YtemcjenpgdieoaaGreatDoor
