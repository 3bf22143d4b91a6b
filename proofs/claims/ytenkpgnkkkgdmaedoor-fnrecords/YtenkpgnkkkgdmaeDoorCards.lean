/-
  DERIVED. GIVEN WITH THE SEED: THE CARDS: each row of YtenkpgnkkkgdmaeDoorRows.lean that lists a variable, with what it lists TIED to the program's text (the seventh form; the later family's looks); each row that meets fmt, with fmt's text TOLD by the authors' own Lean function (tested against real Go, not proved from fmt's source: count such statements apart). THE CARD IS WHAT COUNTS. Prove the row's statement (the work); the ties are given (YtenkpgnkkkgdmaeDoorTie.lean); close each card by the builder's one call (the guide's Derived/Test/ToyasCard.lean, 'card_holds'). Laid BY PROGRAM, IN A SANDBOX (cutbox-door.mjs). By AI agents, Wed Nov 11 2026. No macro, syntax, notation, axiom, sorry.
-/
import Derived.Test.YtenkpgnkkkgdmaeDoorRows
import GoSem.ClaimSeven
namespace Go.Proofs.YtenkpgnkkkgdmaeDoor
namespace Rows

/-- THE TIED CARD OF 'laws.FnReqs'. -/
def fnReqsCard : Claim7 := { stood := { row := fnReqsRow, standIns := [], harness := (true, "9d6d265694667905cdbeac9862c75b96a2f478cc23a7173e2e9bab3e6d9234f1"), looks := true }, kinds := [], alts := [], laidByText := true, laidKinds := [.data, .data, .data, .sentinel, .sentinel, .data], laidTests := true, laidLooks := .later }
def FnReqsCardSaid : Prop := Claim7.holds Tryd.pinned (.plain (OpenSpec.ofChange fnReqsSpec)) fnReqsCard

/-- THE TIED CARD OF 'laws.FnAsked'. -/
def fnAskedCard : Claim7 := { stood := { row := fnAskedRow, standIns := [], harness := (true, "9d6d265694667905cdbeac9862c75b96a2f478cc23a7173e2e9bab3e6d9234f1"), looks := true }, kinds := [], alts := [], laidByText := true, laidKinds := [.data, .data, .data, .sentinel, .sentinel, .data], laidTests := true, laidLooks := .later }
def FnAskedCardSaid : Prop := Claim7.holds Tryd.pinned (.plain (OpenSpec.ofChange fnAskedSpec)) fnAskedCard

/-- THE TIED CARD OF 'laws.FnRecords'. -/
def fnRecordsCard : Claim7 := { stood := { row := fnRecordsRow, standIns := [], harness := (true, "9d6d265694667905cdbeac9862c75b96a2f478cc23a7173e2e9bab3e6d9234f1"), looks := true }, kinds := [], alts := [], laidByText := true, laidKinds := [.data], laidTests := true, laidLooks := .later }
def FnRecordsCardSaid : Prop := Claim7.holds Tryd.pinned (.plain (OpenSpec.ofChange fnRecordsSpec)) fnRecordsCard

/-- THE TIED CARD OF 'laws.FnScanned'. -/
def fnScannedCard : Claim7 := { stood := { row := fnScannedRow, standIns := [], harness := (true, "9d6d265694667905cdbeac9862c75b96a2f478cc23a7173e2e9bab3e6d9234f1"), looks := true }, kinds := [], alts := [], laidByText := true, laidKinds := [.data], laidTests := true, laidLooks := .later }
def FnScannedCardSaid : Prop := Claim7.holds Tryd.pinned (.plain (OpenSpec.ofChange fnScannedSpec)) fnScannedCard

/-- THE SECOND FORM's CARD OF 'laws.FnReqs'. -/
def fnReqsUptoCard : Claim7 := { stood := { row := fnReqsUptoRow, standIns := [], harness := (true, "9d6d265694667905cdbeac9862c75b96a2f478cc23a7173e2e9bab3e6d9234f1"), looks := true }, kinds := [], alts := [], laidByText := true, laidKinds := [.data, .data, .data, .sentinel, .sentinel, .data], laidTests := true, laidLooks := .later }
def FnReqsUptoCardSaid : Prop := Claim7.holds Tryd.pinned (.plain (OpenSpec.upto fnReqsSpec)) fnReqsUptoCard

/-- THE SECOND FORM's CARD OF 'laws.FnAsked'. -/
def fnAskedUptoCard : Claim7 := { stood := { row := fnAskedUptoRow, standIns := [], harness := (true, "9d6d265694667905cdbeac9862c75b96a2f478cc23a7173e2e9bab3e6d9234f1"), looks := true }, kinds := [], alts := [], laidByText := true, laidKinds := [.data, .data, .data, .sentinel, .sentinel, .data], laidTests := true, laidLooks := .later }
def FnAskedUptoCardSaid : Prop := Claim7.holds Tryd.pinned (.plain (OpenSpec.upto fnAskedSpec)) fnAskedUptoCard

/-- THE SECOND FORM's CARD OF 'laws.FnRecords'. -/
def fnRecordsUptoCard : Claim7 := { stood := { row := fnRecordsUptoRow, standIns := [], harness := (true, "9d6d265694667905cdbeac9862c75b96a2f478cc23a7173e2e9bab3e6d9234f1"), looks := true }, kinds := [], alts := [], laidByText := true, laidKinds := [.data], laidTests := true, laidLooks := .later }
def FnRecordsUptoCardSaid : Prop := Claim7.holds Tryd.pinned (.plain (OpenSpec.upto fnRecordsSpec)) fnRecordsUptoCard

/-- THE SECOND FORM's CARD OF 'laws.FnScanned'. -/
def fnScannedUptoCard : Claim7 := { stood := { row := fnScannedUptoRow, standIns := [], harness := (true, "9d6d265694667905cdbeac9862c75b96a2f478cc23a7173e2e9bab3e6d9234f1"), looks := true }, kinds := [], alts := [], laidByText := true, laidKinds := [.data], laidTests := true, laidLooks := .later }
def FnScannedUptoCardSaid : Prop := Claim7.holds Tryd.pinned (.plain (OpenSpec.upto fnScannedSpec)) fnScannedUptoCard
end Rows
end Go.Proofs.YtenkpgnkkkgdmaeDoor
