/-
  DERIVED. GIVEN WITH THE SEED: THE CARDS: each row of YthojijhafhnclaeDoorRows.lean that lists a variable, with what it lists TIED to the program's text (the seventh form; the later family's looks); each row that meets fmt, with fmt's text TOLD by the authors' own Lean function (tested against real Go, not proved from fmt's source: count such statements apart). THE CARD IS WHAT COUNTS. Prove the row's statement (the work); the ties are given (YthojijhafhnclaeDoorTie.lean); close each card by the builder's one call (the guide's Derived/Test/ToyasCard.lean, 'card_holds'). Laid BY PROGRAM, IN A SANDBOX (cutbox-door.mjs). By AI agents, Wed Nov 11 2026. No macro, syntax, notation, axiom, sorry.
-/
import Derived.Test.YthojijhafhnclaeDoorRows
import GoSem.ClaimSeven
namespace Go.Proofs.YthojijhafhnclaeDoor
namespace Rows

/-- THE TIED CARD OF 'laws.FnReqs'. -/
def fnReqsCard : Claim7 := { stood := { row := fnReqsRow, standIns := [], harness := (true, "f8557b07a895c177ecdff3aab0f845d6be97f045d92e874170a0e8e2406693f6"), looks := true }, kinds := [], alts := [], laidByText := true, laidKinds := [.data, .data, .data, .sentinel, .sentinel, .data], laidTests := true, laidLooks := .later }
def FnReqsCardSaid : Prop := Claim7.holds Tryd.pinned (.plain (OpenSpec.ofChange fnReqsSpec)) fnReqsCard

/-- THE TIED CARD OF 'laws.FnAsked'. -/
def fnAskedCard : Claim7 := { stood := { row := fnAskedRow, standIns := [], harness := (true, "f8557b07a895c177ecdff3aab0f845d6be97f045d92e874170a0e8e2406693f6"), looks := true }, kinds := [], alts := [], laidByText := true, laidKinds := [.data, .data, .data, .sentinel, .sentinel, .data], laidTests := true, laidLooks := .later }
def FnAskedCardSaid : Prop := Claim7.holds Tryd.pinned (.plain (OpenSpec.ofChange fnAskedSpec)) fnAskedCard

/-- THE SECOND FORM's CARD OF 'laws.FnReqs'. -/
def fnReqsUptoCard : Claim7 := { stood := { row := fnReqsUptoRow, standIns := [], harness := (true, "f8557b07a895c177ecdff3aab0f845d6be97f045d92e874170a0e8e2406693f6"), looks := true }, kinds := [], alts := [], laidByText := true, laidKinds := [.data, .data, .data, .sentinel, .sentinel, .data], laidTests := true, laidLooks := .later }
def FnReqsUptoCardSaid : Prop := Claim7.holds Tryd.pinned (.plain (OpenSpec.upto fnReqsSpec)) fnReqsUptoCard

/-- THE SECOND FORM's CARD OF 'laws.FnAsked'. -/
def fnAskedUptoCard : Claim7 := { stood := { row := fnAskedUptoRow, standIns := [], harness := (true, "f8557b07a895c177ecdff3aab0f845d6be97f045d92e874170a0e8e2406693f6"), looks := true }, kinds := [], alts := [], laidByText := true, laidKinds := [.data, .data, .data, .sentinel, .sentinel, .data], laidTests := true, laidLooks := .later }
def FnAskedUptoCardSaid : Prop := Claim7.holds Tryd.pinned (.plain (OpenSpec.upto fnAskedSpec)) fnAskedUptoCard
end Rows
end Go.Proofs.YthojijhafhnclaeDoor
