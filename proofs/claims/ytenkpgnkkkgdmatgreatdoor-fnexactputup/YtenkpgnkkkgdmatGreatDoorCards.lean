/-
  DERIVED. GIVEN WITH THE SEED: THE CARDS: each row of YtenkpgnkkkgdmatGreatDoorRows.lean that lists a variable, with what it lists TIED to the program's text (the seventh form; the later family's looks); each row that meets fmt, with fmt's text TOLD by the authors' own Lean function (tested against real Go, not proved from fmt's source: count such statements apart). THE CARD IS WHAT COUNTS. Prove the row's statement (the work); the ties are given (YtenkpgnkkkgdmatGreatDoorTie.lean); close each card by the builder's one call (the guide's Derived/Test/ToyasCard.lean, 'card_holds'). Laid BY PROGRAM, IN A SANDBOX (cutbox-door.mjs). By AI agents, Wed Nov 11 2026. No macro, syntax, notation, axiom, sorry.
-/
import Derived.Test.YtenkpgnkkkgdmatGreatDoorRows
import GoSem.ClaimSeven
namespace Go.Proofs.YtenkpgnkkkgdmatGreatDoor
namespace Rows

/-- THE TIED CARD OF 'laws.FnExactMakeUp'. -/
def fnExactMakeUpCard : Claim7 := { stood := { row := fnExactMakeUpRow, standIns := [], harness := (true, "1bfebcf5aec42c58a810a033a5a9c5142266df0271a95957919794234bf8d7c7"), looks := false }, kinds := [], alts := [], laidByText := true, laidKinds := [.data, .sentinel], laidTests := true, laidLooks := .later }
def FnExactMakeUpCardSaid : Prop := Claim7.holds Tryz.pinned (.plain (OpenSpec.ofChange fnExactMakeUpSpec)) fnExactMakeUpCard

/-- THE TIED CARD OF 'laws.FnExactPutUp'. -/
def fnExactPutUpCard : Claim7 := { stood := { row := fnExactPutUpRow, standIns := [], harness := (true, "1bfebcf5aec42c58a810a033a5a9c5142266df0271a95957919794234bf8d7c7"), looks := false }, kinds := [], alts := [], laidByText := true, laidKinds := [.data, .sentinel], laidTests := true, laidLooks := .later }
def FnExactPutUpCardSaid : Prop := Claim7.holds Tryz.pinned (.plain (OpenSpec.ofChange fnExactPutUpSpec)) fnExactPutUpCard

/-- THE SECOND FORM's CARD OF 'laws.FnExactMakeUp'. -/
def fnExactMakeUpUptoCard : Claim7 := { stood := { row := fnExactMakeUpUptoRow, standIns := [], harness := (true, "1bfebcf5aec42c58a810a033a5a9c5142266df0271a95957919794234bf8d7c7"), looks := false }, kinds := [], alts := [], laidByText := true, laidKinds := [.data, .sentinel], laidTests := true, laidLooks := .later }
def FnExactMakeUpUptoCardSaid : Prop := Claim7.holds Tryz.pinned (.plain (OpenSpec.upto fnExactMakeUpSpec)) fnExactMakeUpUptoCard

/-- THE SECOND FORM's CARD OF 'laws.FnExactPutUp'. -/
def fnExactPutUpUptoCard : Claim7 := { stood := { row := fnExactPutUpUptoRow, standIns := [], harness := (true, "1bfebcf5aec42c58a810a033a5a9c5142266df0271a95957919794234bf8d7c7"), looks := false }, kinds := [], alts := [], laidByText := true, laidKinds := [.data, .sentinel], laidTests := true, laidLooks := .later }
def FnExactPutUpUptoCardSaid : Prop := Claim7.holds Tryz.pinned (.plain (OpenSpec.upto fnExactPutUpSpec)) fnExactPutUpUptoCard
end Rows
end Go.Proofs.YtenkpgnkkkgdmatGreatDoor
