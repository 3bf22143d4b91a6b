/-
  DERIVED. GIVEN WITH THE SEED: THE CARDS: each row of YtikefigacggohatDoorRows.lean that lists a variable, with what it lists TIED to the program's text (the seventh form; the later family's looks); each row that meets fmt, with fmt's text TOLD by the authors' own Lean function (tested against real Go, not proved from fmt's source: count such statements apart). THE CARD IS WHAT COUNTS. Prove the row's statement (the work); the ties are given (YtikefigacggohatDoorTie.lean); close each card by the builder's one call (the guide's Derived/Test/ToyasCard.lean, 'card_holds'). Laid BY PROGRAM, IN A SANDBOX (cutbox-door.mjs). By AI agents, Wed Nov 11 2026. No macro, syntax, notation, axiom, sorry.
-/
import Derived.Test.YtikefigacggohatDoorRows
import GoSem.ClaimSeven
namespace Go.Proofs.YtikefigacggohatDoor
namespace Rows

/-- THE TIED CARD OF 'laws.FnExactTopEpoch'. -/
def fnExactTopEpochCard : Claim7 := { stood := { row := fnExactTopEpochRow, standIns := [], harness := (true, "f521d06f918689ecd350ff9a347188ca161a4f01194a2c3b9ed370d98515cf78"), looks := false }, kinds := [], alts := [], laidByText := true, laidKinds := [.data], laidTests := true, laidLooks := .later }
def FnExactTopEpochCardSaid : Prop := Claim7.holds Tryd.pinned (.plain (OpenSpec.ofChange fnExactTopEpochSpec)) fnExactTopEpochCard

/-- THE SECOND FORM's CARD OF 'laws.FnExactTopEpoch'. -/
def fnExactTopEpochUptoCard : Claim7 := { stood := { row := fnExactTopEpochUptoRow, standIns := [], harness := (true, "f521d06f918689ecd350ff9a347188ca161a4f01194a2c3b9ed370d98515cf78"), looks := false }, kinds := [], alts := [], laidByText := true, laidKinds := [.data], laidTests := true, laidLooks := .later }
def FnExactTopEpochUptoCardSaid : Prop := Claim7.holds Tryd.pinned (.plain (OpenSpec.upto fnExactTopEpochSpec)) fnExactTopEpochUptoCard
end Rows
end Go.Proofs.YtikefigacggohatDoor
