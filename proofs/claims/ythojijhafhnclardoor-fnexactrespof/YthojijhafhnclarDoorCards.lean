/-
  DERIVED. GIVEN WITH THE SEED: THE CARDS: each row of YthojijhafhnclarDoorRows.lean that lists a variable, with what it lists TIED to the program's text (the seventh form; the later family's looks); each row that meets fmt, with fmt's text TOLD by the authors' own Lean function (tested against real Go, not proved from fmt's source: count such statements apart). THE CARD IS WHAT COUNTS. Prove the row's statement (the work); the ties are given (YthojijhafhnclarDoorTie.lean); close each card by the builder's one call (the guide's Derived/Test/ToyasCard.lean, 'card_holds'). Laid BY PROGRAM, IN A SANDBOX (cutbox-door.mjs). By AI agents, Wed Nov 11 2026. No macro, syntax, notation, axiom, sorry.
-/
import Derived.Test.YthojijhafhnclarDoorRows
import GoSem.ClaimSeven
namespace Go.Proofs.YthojijhafhnclarDoor
namespace Rows

/-- THE TIED CARD OF 'laws.FnExactRespFields'. -/
def fnExactRespFieldsCard : Claim7 := { stood := { row := fnExactRespFieldsRow, standIns := [], harness := (true, "52c059d4263d05ff64e5e1386d6c0bc3b2e1912ecda236ca0d6b17fb49eb801b"), looks := true }, kinds := [], alts := [], laidByText := true, laidKinds := [.data, .data, .data], laidTests := true, laidLooks := .later }
def FnExactRespFieldsCardSaid : Prop := Claim7.holds Tryd.pinned (.plain (OpenSpec.ofChange fnExactRespFieldsSpec)) fnExactRespFieldsCard

/-- THE TIED CARD OF 'laws.FnExactRespOf'. -/
def fnExactRespOfCard : Claim7 := { stood := { row := fnExactRespOfRow, standIns := [], harness := (true, "52c059d4263d05ff64e5e1386d6c0bc3b2e1912ecda236ca0d6b17fb49eb801b"), looks := true }, kinds := [], alts := [], laidByText := true, laidKinds := [.data, .data, .data, .sentinel, .sentinel], laidTests := true, laidLooks := .later }
def FnExactRespOfCardSaid : Prop := Claim7.holds Tryd.pinned (.plain (OpenSpec.ofChange fnExactRespOfSpec)) fnExactRespOfCard

/-- THE SECOND FORM's CARD OF 'laws.FnExactRespFields'. -/
def fnExactRespFieldsUptoCard : Claim7 := { stood := { row := fnExactRespFieldsUptoRow, standIns := [], harness := (true, "52c059d4263d05ff64e5e1386d6c0bc3b2e1912ecda236ca0d6b17fb49eb801b"), looks := true }, kinds := [], alts := [], laidByText := true, laidKinds := [.data, .data, .data], laidTests := true, laidLooks := .later }
def FnExactRespFieldsUptoCardSaid : Prop := Claim7.holds Tryd.pinned (.plain (OpenSpec.upto fnExactRespFieldsSpec)) fnExactRespFieldsUptoCard

/-- THE SECOND FORM's CARD OF 'laws.FnExactRespOf'. -/
def fnExactRespOfUptoCard : Claim7 := { stood := { row := fnExactRespOfUptoRow, standIns := [], harness := (true, "52c059d4263d05ff64e5e1386d6c0bc3b2e1912ecda236ca0d6b17fb49eb801b"), looks := true }, kinds := [], alts := [], laidByText := true, laidKinds := [.data, .data, .data, .sentinel, .sentinel], laidTests := true, laidLooks := .later }
def FnExactRespOfUptoCardSaid : Prop := Claim7.holds Tryd.pinned (.plain (OpenSpec.upto fnExactRespOfSpec)) fnExactRespOfUptoCard
end Rows
end Go.Proofs.YthojijhafhnclarDoor
