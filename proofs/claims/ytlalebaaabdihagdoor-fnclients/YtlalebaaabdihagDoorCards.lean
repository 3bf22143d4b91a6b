/-
  DERIVED. GIVEN WITH THE SEED: THE CARDS: each row of YtlalebaaabdihagDoorRows.lean that lists a variable, with what it lists TIED to the program's text (the seventh form; the later family's looks); each row that meets fmt, with fmt's text TOLD by the authors' own Lean function (tested against real Go, not proved from fmt's source: count such statements apart). THE CARD IS WHAT COUNTS. Prove the row's statement (the work); the ties are given (YtlalebaaabdihagDoorTie.lean); close each card by the builder's one call (the guide's Derived/Test/ToyasCard.lean, 'card_holds'). Laid BY PROGRAM, IN A SANDBOX (cutbox-door.mjs). By AI agents, Wed Nov 11 2026. No macro, syntax, notation, axiom, sorry.
-/
import Derived.Test.YtlalebaaabdihagDoorRows
import GoSem.ClaimSeven
namespace Go.Proofs.YtlalebaaabdihagDoor
namespace Rows

/-- THE TIED CARD OF 'laws.FnClients'. -/
def fnClientsCard : Claim7 := { stood := { row := fnClientsRow, standIns := [], harness := (true, "98ed7ad9d160d8e29035d1a0a2c5fc1fbe3355f662b122ba5c266284b0c6a476"), looks := false }, kinds := [], alts := [], laidByText := true, laidKinds := [.data, .data], laidTests := true, laidLooks := .later }
def FnClientsCardSaid : Prop := Claim7.holds Tryd.pinned (.plain (OpenSpec.ofChange fnClientsSpec)) fnClientsCard

/-- THE SECOND FORM's CARD OF 'laws.FnClients'. -/
def fnClientsUptoCard : Claim7 := { stood := { row := fnClientsUptoRow, standIns := [], harness := (true, "98ed7ad9d160d8e29035d1a0a2c5fc1fbe3355f662b122ba5c266284b0c6a476"), looks := false }, kinds := [], alts := [], laidByText := true, laidKinds := [.data, .data], laidTests := true, laidLooks := .later }
def FnClientsUptoCardSaid : Prop := Claim7.holds Tryd.pinned (.plain (OpenSpec.upto fnClientsSpec)) fnClientsUptoCard
end Rows
end Go.Proofs.YtlalebaaabdihagDoor
