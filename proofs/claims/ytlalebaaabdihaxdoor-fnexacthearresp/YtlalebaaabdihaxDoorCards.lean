/-
  DERIVED. GIVEN WITH THE SEED: THE CARDS: each row of YtlalebaaabdihaxDoorRows.lean that lists a variable, with what it lists TIED to the program's text (the seventh form; the later family's looks); each row that meets fmt, with fmt's text TOLD by the authors' own Lean function (tested against real Go, not proved from fmt's source: count such statements apart). THE CARD IS WHAT COUNTS. Prove the row's statement (the work); the ties are given (YtlalebaaabdihaxDoorTie.lean); close each card by the builder's one call (the guide's Derived/Test/ToyasCard.lean, 'card_holds'). Laid BY PROGRAM, IN A SANDBOX (cutbox-door.mjs). By AI agents, Wed Nov 11 2026. No macro, syntax, notation, axiom, sorry.
-/
import Derived.Test.YtlalebaaabdihaxDoorRows
import GoSem.ClaimSeven
namespace Go.Proofs.YtlalebaaabdihaxDoor
namespace Rows

/-- THE TIED CARD OF 'laws.FnExactHearResp'. -/
def fnExactHearRespCard : Claim7 := { stood := { row := fnExactHearRespRow, standIns := [], harness := (true, "4940c24d0f433e9f5105eb358ec8f0bbb57768b985755e847dfabfacb97e21a2"), looks := false }, kinds := [], alts := [], laidByText := true, laidKinds := [.data], laidTests := true, laidLooks := .later }
def FnExactHearRespCardSaid : Prop := Claim7.holds Tryd.pinned (.plain (OpenSpec.ofChange fnExactHearRespSpec)) fnExactHearRespCard

/-- THE SECOND FORM's CARD OF 'laws.FnExactHearResp'. -/
def fnExactHearRespUptoCard : Claim7 := { stood := { row := fnExactHearRespUptoRow, standIns := [], harness := (true, "4940c24d0f433e9f5105eb358ec8f0bbb57768b985755e847dfabfacb97e21a2"), looks := false }, kinds := [], alts := [], laidByText := true, laidKinds := [.data], laidTests := true, laidLooks := .later }
def FnExactHearRespUptoCardSaid : Prop := Claim7.holds Tryd.pinned (.plain (OpenSpec.upto fnExactHearRespSpec)) fnExactHearRespUptoCard
end Rows
end Go.Proofs.YtlalebaaabdihaxDoor
