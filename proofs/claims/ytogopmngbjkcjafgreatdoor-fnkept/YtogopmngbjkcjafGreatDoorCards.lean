/-
  DERIVED. GIVEN WITH THE SEED: THE CARDS: each row of YtogopmngbjkcjafGreatDoorRows.lean that lists a variable, with what it lists TIED to the program's text (the seventh form; the later family's looks); each row that meets fmt, with fmt's text TOLD by the authors' own Lean function (tested against real Go, not proved from fmt's source: count such statements apart). THE CARD IS WHAT COUNTS. Prove the row's statement (the work); the ties are given (YtogopmngbjkcjafGreatDoorTie.lean); close each card by the builder's one call (the guide's Derived/Test/ToyasCard.lean, 'card_holds'). Laid BY PROGRAM, IN A SANDBOX (cutbox-door.mjs). By AI agents, Wed Nov 11 2026. No macro, syntax, notation, axiom, sorry.
-/
import Derived.Test.YtogopmngbjkcjafGreatDoorRows
import GoSem.ClaimSeven
namespace Go.Proofs.YtogopmngbjkcjafGreatDoor
namespace Rows

/-- THE TIED CARD OF 'laws.FnKept'. -/
def fnKeptCard : Claim7 := { stood := { row := fnKeptRow, standIns := [], harness := (true, "276da807024160f3d2476166c62036fa552a0becb3fa242376f929fc5b135d2b"), looks := false }, kinds := [], alts := [], laidByText := true, laidKinds := [.data, .sentinel], laidTests := true, laidLooks := .later }
def FnKeptCardSaid : Prop := Claim7.holds Tryz.pinned (.plain (OpenSpec.ofChange fnKeptSpec)) fnKeptCard

/-- THE TIED CARD OF 'laws.FnMade'. -/
def fnMadeCard : Claim7 := { stood := { row := fnMadeRow, standIns := [], harness := (true, "276da807024160f3d2476166c62036fa552a0becb3fa242376f929fc5b135d2b"), looks := false }, kinds := [], alts := [], laidByText := true, laidKinds := [.data, .sentinel], laidTests := true, laidLooks := .later }
def FnMadeCardSaid : Prop := Claim7.holds Tryz.pinned (.plain (OpenSpec.ofChange fnMadeSpec)) fnMadeCard

/-- THE TIED CARD OF 'laws.FnOpened'. -/
def fnOpenedCard : Claim7 := { stood := { row := fnOpenedRow, standIns := [], harness := (true, "276da807024160f3d2476166c62036fa552a0becb3fa242376f929fc5b135d2b"), looks := false }, kinds := [], alts := [], laidByText := true, laidKinds := [.data, .sentinel], laidTests := true, laidLooks := .later }
def FnOpenedCardSaid : Prop := Claim7.holds Tryz.pinned (.plain (OpenSpec.ofChange fnOpenedSpec)) fnOpenedCard

/-- THE TIED CARD OF 'laws.FnServed'. -/
def fnServedCard : Claim7 := { stood := { row := fnServedRow, standIns := [], harness := (true, "276da807024160f3d2476166c62036fa552a0becb3fa242376f929fc5b135d2b"), looks := false }, kinds := [], alts := [], laidByText := true, laidKinds := [.data, .data, .sentinel, .data], laidTests := true, laidLooks := .later }
def FnServedCardSaid : Prop := Claim7.holds Tryz.pinned (.plain (OpenSpec.ofChange fnServedSpec)) fnServedCard

/-- THE TIED CARD OF 'laws.FnTold'. -/
def fnToldCard : Claim7 := { stood := { row := fnToldRow, standIns := [], harness := (true, "276da807024160f3d2476166c62036fa552a0becb3fa242376f929fc5b135d2b"), looks := false }, kinds := [], alts := [], laidByText := true, laidKinds := [.data, .sentinel], laidTests := true, laidLooks := .later }
def FnToldCardSaid : Prop := Claim7.holds Tryz.pinned (.plain (OpenSpec.ofChange fnToldSpec)) fnToldCard

/-- THE SECOND FORM's CARD OF 'laws.FnKept'. -/
def fnKeptUptoCard : Claim7 := { stood := { row := fnKeptUptoRow, standIns := [], harness := (true, "276da807024160f3d2476166c62036fa552a0becb3fa242376f929fc5b135d2b"), looks := false }, kinds := [], alts := [], laidByText := true, laidKinds := [.data, .sentinel], laidTests := true, laidLooks := .later }
def FnKeptUptoCardSaid : Prop := Claim7.holds Tryz.pinned (.plain (OpenSpec.upto fnKeptSpec)) fnKeptUptoCard

/-- THE SECOND FORM's CARD OF 'laws.FnMade'. -/
def fnMadeUptoCard : Claim7 := { stood := { row := fnMadeUptoRow, standIns := [], harness := (true, "276da807024160f3d2476166c62036fa552a0becb3fa242376f929fc5b135d2b"), looks := false }, kinds := [], alts := [], laidByText := true, laidKinds := [.data, .sentinel], laidTests := true, laidLooks := .later }
def FnMadeUptoCardSaid : Prop := Claim7.holds Tryz.pinned (.plain (OpenSpec.upto fnMadeSpec)) fnMadeUptoCard

/-- THE SECOND FORM's CARD OF 'laws.FnOpened'. -/
def fnOpenedUptoCard : Claim7 := { stood := { row := fnOpenedUptoRow, standIns := [], harness := (true, "276da807024160f3d2476166c62036fa552a0becb3fa242376f929fc5b135d2b"), looks := false }, kinds := [], alts := [], laidByText := true, laidKinds := [.data, .sentinel], laidTests := true, laidLooks := .later }
def FnOpenedUptoCardSaid : Prop := Claim7.holds Tryz.pinned (.plain (OpenSpec.upto fnOpenedSpec)) fnOpenedUptoCard

/-- THE SECOND FORM's CARD OF 'laws.FnServed'. -/
def fnServedUptoCard : Claim7 := { stood := { row := fnServedUptoRow, standIns := [], harness := (true, "276da807024160f3d2476166c62036fa552a0becb3fa242376f929fc5b135d2b"), looks := false }, kinds := [], alts := [], laidByText := true, laidKinds := [.data, .data, .sentinel, .data], laidTests := true, laidLooks := .later }
def FnServedUptoCardSaid : Prop := Claim7.holds Tryz.pinned (.plain (OpenSpec.upto fnServedSpec)) fnServedUptoCard

/-- THE SECOND FORM's CARD OF 'laws.FnTold'. -/
def fnToldUptoCard : Claim7 := { stood := { row := fnToldUptoRow, standIns := [], harness := (true, "276da807024160f3d2476166c62036fa552a0becb3fa242376f929fc5b135d2b"), looks := false }, kinds := [], alts := [], laidByText := true, laidKinds := [.data, .sentinel], laidTests := true, laidLooks := .later }
def FnToldUptoCardSaid : Prop := Claim7.holds Tryz.pinned (.plain (OpenSpec.upto fnToldSpec)) fnToldUptoCard
end Rows
end Go.Proofs.YtogopmngbjkcjafGreatDoor
