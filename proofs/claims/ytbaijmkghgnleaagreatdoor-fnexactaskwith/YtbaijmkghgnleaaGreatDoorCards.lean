/-
  DERIVED. GIVEN WITH THE SEED: THE CARDS: each row of YtbaijmkghgnleaaGreatDoorRows.lean that lists a variable, with what it lists TIED to the program's text (the seventh form; the later family's looks); each row that meets fmt, with fmt's text TOLD by the authors' own Lean function (tested against real Go, not proved from fmt's source: count such statements apart). THE CARD IS WHAT COUNTS. Prove the row's statement (the work); the ties are given (YtbaijmkghgnleaaGreatDoorTie.lean); close each card by the builder's one call (the guide's Derived/Test/ToyasCard.lean, 'card_holds'). Laid BY PROGRAM, IN A SANDBOX (cutbox-door.mjs). By AI agents, Wed Nov 11 2026. No macro, syntax, notation, axiom, sorry.
-/
import Derived.Test.YtbaijmkghgnleaaGreatDoorRows
import GoSem.ClaimSeven
namespace Go.Proofs.YtbaijmkghgnleaaGreatDoor
namespace Rows

/-- THE TIED CARD OF 'laws.FnExactAskWith'. -/
def fnExactAskWithCard : Claim7 := { stood := { row := fnExactAskWithRow, standIns := [], harness := (true, "4ac6960a35a67f20bf7649a182aa656c0107a24f6a1a3cc126694817cca91b99"), looks := true }, kinds := [], alts := [], laidByText := true, laidKinds := [.data, .data, .data, .data], laidTests := true, laidLooks := .later }
def FnExactAskWithCardSaid : Prop := Claim7.holds Tryz.pinned (.plain (OpenSpec.ofChange fnExactAskWithSpec)) fnExactAskWithCard

/-- THE SECOND FORM's CARD OF 'laws.FnExactAskWith'. -/
def fnExactAskWithUptoCard : Claim7 := { stood := { row := fnExactAskWithUptoRow, standIns := [], harness := (true, "4ac6960a35a67f20bf7649a182aa656c0107a24f6a1a3cc126694817cca91b99"), looks := true }, kinds := [], alts := [], laidByText := true, laidKinds := [.data, .data, .data, .data], laidTests := true, laidLooks := .later }
def FnExactAskWithUptoCardSaid : Prop := Claim7.holds Tryz.pinned (.plain (OpenSpec.upto fnExactAskWithSpec)) fnExactAskWithUptoCard
end Rows
end Go.Proofs.YtbaijmkghgnleaaGreatDoor
