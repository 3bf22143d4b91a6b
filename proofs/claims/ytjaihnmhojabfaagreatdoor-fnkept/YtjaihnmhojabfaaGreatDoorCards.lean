/-
  DERIVED. GIVEN WITH THE SEED: THE CARDS: each row of YtjaihnmhojabfaaGreatDoorRows.lean that lists a variable, with what it lists TIED to the program's text (the seventh form; the later family's looks); each row that meets fmt, with fmt's text TOLD by the authors' own Lean function (tested against real Go, not proved from fmt's source: count such statements apart). THE CARD IS WHAT COUNTS. Prove the row's statement (the work); the ties are given (YtjaihnmhojabfaaGreatDoorTie.lean); close each card by the builder's one call (the guide's Derived/Test/ToyasCard.lean, 'card_holds'). Laid BY PROGRAM, IN A SANDBOX (cutbox-door.mjs). By AI agents, Wed Nov 11 2026. No macro, syntax, notation, axiom, sorry.
-/
import Derived.Test.YtjaihnmhojabfaaGreatDoorRows
import GoSem.ClaimSeven
namespace Go.Proofs.YtjaihnmhojabfaaGreatDoor
namespace Rows

/-- THE TIED CARD OF 'laws.FnMade'. -/
def fnMadeCard : Claim7 := { stood := { row := fnMadeRow, standIns := [], harness := (true, "8ad631834b04f20eb16f550197095ba5bc5c9fcbbb73e349d2cb78ff59f4f31f"), looks := false }, kinds := [], alts := [], laidByText := true, laidKinds := [.data, .sentinel], laidTests := true, laidLooks := .later }
def FnMadeCardSaid : Prop := Claim7.holds Tryz.pinned (.plain (OpenSpec.ofChange fnMadeSpec)) fnMadeCard

/-- THE TIED CARD OF 'laws.FnKept'. -/
def fnKeptCard : Claim7 := { stood := { row := fnKeptRow, standIns := [], harness := (true, "8ad631834b04f20eb16f550197095ba5bc5c9fcbbb73e349d2cb78ff59f4f31f"), looks := false }, kinds := [], alts := [], laidByText := true, laidKinds := [.data, .sentinel], laidTests := true, laidLooks := .later }
def FnKeptCardSaid : Prop := Claim7.holds Tryz.pinned (.plain (OpenSpec.ofChange fnKeptSpec)) fnKeptCard

/-- THE TIED CARD OF 'laws.FnOpened'. -/
def fnOpenedCard : Claim7 := { stood := { row := fnOpenedRow, standIns := [], harness := (true, "8ad631834b04f20eb16f550197095ba5bc5c9fcbbb73e349d2cb78ff59f4f31f"), looks := false }, kinds := [], alts := [], laidByText := true, laidKinds := [.data, .sentinel], laidTests := true, laidLooks := .later }
def FnOpenedCardSaid : Prop := Claim7.holds Tryz.pinned (.plain (OpenSpec.ofChange fnOpenedSpec)) fnOpenedCard

/-- THE SECOND FORM's CARD OF 'laws.FnMade'. -/
def fnMadeUptoCard : Claim7 := { stood := { row := fnMadeUptoRow, standIns := [], harness := (true, "8ad631834b04f20eb16f550197095ba5bc5c9fcbbb73e349d2cb78ff59f4f31f"), looks := false }, kinds := [], alts := [], laidByText := true, laidKinds := [.data, .sentinel], laidTests := true, laidLooks := .later }
def FnMadeUptoCardSaid : Prop := Claim7.holds Tryz.pinned (.plain (OpenSpec.upto fnMadeSpec)) fnMadeUptoCard

/-- THE SECOND FORM's CARD OF 'laws.FnKept'. -/
def fnKeptUptoCard : Claim7 := { stood := { row := fnKeptUptoRow, standIns := [], harness := (true, "8ad631834b04f20eb16f550197095ba5bc5c9fcbbb73e349d2cb78ff59f4f31f"), looks := false }, kinds := [], alts := [], laidByText := true, laidKinds := [.data, .sentinel], laidTests := true, laidLooks := .later }
def FnKeptUptoCardSaid : Prop := Claim7.holds Tryz.pinned (.plain (OpenSpec.upto fnKeptSpec)) fnKeptUptoCard

/-- THE SECOND FORM's CARD OF 'laws.FnOpened'. -/
def fnOpenedUptoCard : Claim7 := { stood := { row := fnOpenedUptoRow, standIns := [], harness := (true, "8ad631834b04f20eb16f550197095ba5bc5c9fcbbb73e349d2cb78ff59f4f31f"), looks := false }, kinds := [], alts := [], laidByText := true, laidKinds := [.data, .sentinel], laidTests := true, laidLooks := .later }
def FnOpenedUptoCardSaid : Prop := Claim7.holds Tryz.pinned (.plain (OpenSpec.upto fnOpenedSpec)) fnOpenedUptoCard
end Rows
end Go.Proofs.YtjaihnmhojabfaaGreatDoor
