/-
  DERIVED. GIVEN WITH THE SEED: THE CARDS: each row of YthojijhafhnclaqDoorRows.lean that lists a variable, with what it lists TIED to the program's text (the seventh form; the later family's looks); each row that meets fmt, with fmt's text TOLD by the authors' own Lean function (tested against real Go, not proved from fmt's source: count such statements apart). THE CARD IS WHAT COUNTS. Prove the row's statement (the work); the ties are given (YthojijhafhnclaqDoorTie.lean); close each card by the builder's one call (the guide's Derived/Test/ToyasCard.lean, 'card_holds'). Laid BY PROGRAM, IN A SANDBOX (cutbox-door.mjs). By AI agents, Wed Nov 11 2026. No macro, syntax, notation, axiom, sorry.
-/
import Derived.Test.YthojijhafhnclaqDoorRows
import GoSem.ClaimSeven
namespace Go.Proofs.YthojijhafhnclaqDoor
namespace Rows

/-- THE TIED CARD OF 'laws.FnExactReqOk'. -/
def fnExactReqOkCard : Claim7 := { stood := { row := fnExactReqOkRow, standIns := [], harness := (true, "ab46aa314f356caf908832db4249f426552bfa3a2cf527c51217d66f296e6ad3"), looks := true }, kinds := [], alts := [], laidByText := true, laidKinds := [.data], laidTests := true, laidLooks := .later }
def FnExactReqOkCardSaid : Prop := Claim7.holds Tryd.pinned (.plain (OpenSpec.ofChange fnExactReqOkSpec)) fnExactReqOkCard

/-- THE TIED CARD OF 'laws.FnExactFieldsOf'. -/
def fnExactFieldsOfCard : Claim7 := { stood := { row := fnExactFieldsOfRow, standIns := [], harness := (true, "ab46aa314f356caf908832db4249f426552bfa3a2cf527c51217d66f296e6ad3"), looks := true }, kinds := [], alts := [], laidByText := true, laidKinds := [.data, .data, .data, .data], laidTests := true, laidLooks := .later }
def FnExactFieldsOfCardSaid : Prop := Claim7.holds Tryd.pinned (.plain (OpenSpec.ofChange fnExactFieldsOfSpec)) fnExactFieldsOfCard

/-- THE TIED CARD OF 'laws.FnExactReqOf'. -/
def fnExactReqOfCard : Claim7 := { stood := { row := fnExactReqOfRow, standIns := [], harness := (true, "ab46aa314f356caf908832db4249f426552bfa3a2cf527c51217d66f296e6ad3"), looks := true }, kinds := [], alts := [], laidByText := true, laidKinds := [.data, .data, .data, .sentinel, .sentinel, .data], laidTests := true, laidLooks := .later }
def FnExactReqOfCardSaid : Prop := Claim7.holds Tryd.pinned (.plain (OpenSpec.ofChange fnExactReqOfSpec)) fnExactReqOfCard

/-- THE SECOND FORM's CARD OF 'laws.FnExactReqOk'. -/
def fnExactReqOkUptoCard : Claim7 := { stood := { row := fnExactReqOkUptoRow, standIns := [], harness := (true, "ab46aa314f356caf908832db4249f426552bfa3a2cf527c51217d66f296e6ad3"), looks := true }, kinds := [], alts := [], laidByText := true, laidKinds := [.data], laidTests := true, laidLooks := .later }
def FnExactReqOkUptoCardSaid : Prop := Claim7.holds Tryd.pinned (.plain (OpenSpec.upto fnExactReqOkSpec)) fnExactReqOkUptoCard

/-- THE SECOND FORM's CARD OF 'laws.FnExactFieldsOf'. -/
def fnExactFieldsOfUptoCard : Claim7 := { stood := { row := fnExactFieldsOfUptoRow, standIns := [], harness := (true, "ab46aa314f356caf908832db4249f426552bfa3a2cf527c51217d66f296e6ad3"), looks := true }, kinds := [], alts := [], laidByText := true, laidKinds := [.data, .data, .data, .data], laidTests := true, laidLooks := .later }
def FnExactFieldsOfUptoCardSaid : Prop := Claim7.holds Tryd.pinned (.plain (OpenSpec.upto fnExactFieldsOfSpec)) fnExactFieldsOfUptoCard

/-- THE SECOND FORM's CARD OF 'laws.FnExactReqOf'. -/
def fnExactReqOfUptoCard : Claim7 := { stood := { row := fnExactReqOfUptoRow, standIns := [], harness := (true, "ab46aa314f356caf908832db4249f426552bfa3a2cf527c51217d66f296e6ad3"), looks := true }, kinds := [], alts := [], laidByText := true, laidKinds := [.data, .data, .data, .sentinel, .sentinel, .data], laidTests := true, laidLooks := .later }
def FnExactReqOfUptoCardSaid : Prop := Claim7.holds Tryd.pinned (.plain (OpenSpec.upto fnExactReqOfSpec)) fnExactReqOfUptoCard
end Rows
end Go.Proofs.YthojijhafhnclaqDoor
