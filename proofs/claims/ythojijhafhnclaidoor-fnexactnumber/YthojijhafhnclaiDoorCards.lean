/-
  DERIVED. GIVEN WITH THE SEED: THE CARDS: each row of YthojijhafhnclaiDoorRows.lean that lists a variable, with what it lists TIED to the program's text (the seventh form; the later family's looks); each row that meets fmt, with fmt's text TOLD by the authors' own Lean function (tested against real Go, not proved from fmt's source: count such statements apart). THE CARD IS WHAT COUNTS. Prove the row's statement (the work); the ties are given (YthojijhafhnclaiDoorTie.lean); close each card by the builder's one call (the guide's Derived/Test/ToyasCard.lean, 'card_holds'). Laid BY PROGRAM, IN A SANDBOX (cutbox-door.mjs). By AI agents, Wed Nov 11 2026. No macro, syntax, notation, axiom, sorry.
-/
import Derived.Test.YthojijhafhnclaiDoorRows
import GoSem.ClaimSeven
namespace Go.Proofs.YthojijhafhnclaiDoor
namespace Rows

/-- THE TIED CARD OF 'laws.FnExactText'. -/
def fnExactTextCard : Claim7 := { stood := { row := fnExactTextRow, standIns := [], harness := (true, "b02a61ef99016b52be3f1fc8bf48a1d0fcdc86e13cdaa6a1ae3605d9158785b3"), looks := true }, kinds := [], alts := [], laidByText := true, laidKinds := [.data, .data, .data], laidTests := true, laidLooks := .later }
def FnExactTextCardSaid : Prop := Claim7.holds Tryd.pinned (.plain (OpenSpec.ofChange fnExactTextSpec)) fnExactTextCard

/-- THE TIED CARD OF 'laws.FnExactNumber'. -/
def fnExactNumberCard : Claim7 := { stood := { row := fnExactNumberRow, standIns := [], harness := (true, "b02a61ef99016b52be3f1fc8bf48a1d0fcdc86e13cdaa6a1ae3605d9158785b3"), looks := true }, kinds := [], alts := [], laidByText := true, laidKinds := [.data, .data, .data, .sentinel, .sentinel], laidTests := true, laidLooks := .later }
def FnExactNumberCardSaid : Prop := Claim7.holds Tryd.pinned (.plain (OpenSpec.ofChange fnExactNumberSpec)) fnExactNumberCard

/-- THE SECOND FORM's CARD OF 'laws.FnExactText'. -/
def fnExactTextUptoCard : Claim7 := { stood := { row := fnExactTextUptoRow, standIns := [], harness := (true, "b02a61ef99016b52be3f1fc8bf48a1d0fcdc86e13cdaa6a1ae3605d9158785b3"), looks := true }, kinds := [], alts := [], laidByText := true, laidKinds := [.data, .data, .data], laidTests := true, laidLooks := .later }
def FnExactTextUptoCardSaid : Prop := Claim7.holds Tryd.pinned (.plain (OpenSpec.upto fnExactTextSpec)) fnExactTextUptoCard

/-- THE SECOND FORM's CARD OF 'laws.FnExactNumber'. -/
def fnExactNumberUptoCard : Claim7 := { stood := { row := fnExactNumberUptoRow, standIns := [], harness := (true, "b02a61ef99016b52be3f1fc8bf48a1d0fcdc86e13cdaa6a1ae3605d9158785b3"), looks := true }, kinds := [], alts := [], laidByText := true, laidKinds := [.data, .data, .data, .sentinel, .sentinel], laidTests := true, laidLooks := .later }
def FnExactNumberUptoCardSaid : Prop := Claim7.holds Tryd.pinned (.plain (OpenSpec.upto fnExactNumberSpec)) fnExactNumberUptoCard
end Rows
end Go.Proofs.YthojijhafhnclaiDoor
