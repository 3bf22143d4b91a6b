/-
  DERIVED. GIVEN WITH THE SEED: THE CARDS: each row of YtenkpgnkkkgdmauDoorRows.lean that lists a variable, with what it lists TIED to the program's text (the seventh form; the later family's looks); each row that meets fmt, with fmt's text TOLD by the authors' own Lean function (tested against real Go, not proved from fmt's source: count such statements apart). THE CARD IS WHAT COUNTS. Prove the row's statement (the work); the ties are given (YtenkpgnkkkgdmauDoorTie.lean); close each card by the builder's one call (the guide's Derived/Test/ToyasCard.lean, 'card_holds'). Laid BY PROGRAM, IN A SANDBOX (cutbox-door.mjs). By AI agents, Wed Nov 11 2026. No macro, syntax, notation, axiom, sorry.
-/
import Derived.Test.YtenkpgnkkkgdmauDoorRows
import GoSem.ClaimSeven
namespace Go.Proofs.YtenkpgnkkkgdmauDoor
namespace Rows

/-- THE TIED CARD OF 'laws.FnExactOpenStore'. -/
def fnExactOpenStoreCard : Claim7 := { stood := { row := fnExactOpenStoreRow, standIns := [], harness := (true, "22358ff4b91085ef449aef5c8e99976320cd23b475a791f3b15ee6012eacd5fe"), looks := false }, kinds := [], alts := [], laidByText := true, laidKinds := [.data, .sentinel], laidTests := true, laidLooks := .later }
def FnExactOpenStoreCardSaid : Prop := Claim7.holds Tryd.pinned (.plain (OpenSpec.ofChange fnExactOpenStoreSpec)) fnExactOpenStoreCard

/-- THE SECOND FORM's CARD OF 'laws.FnExactOpenStore'. -/
def fnExactOpenStoreUptoCard : Claim7 := { stood := { row := fnExactOpenStoreUptoRow, standIns := [], harness := (true, "22358ff4b91085ef449aef5c8e99976320cd23b475a791f3b15ee6012eacd5fe"), looks := false }, kinds := [], alts := [], laidByText := true, laidKinds := [.data, .sentinel], laidTests := true, laidLooks := .later }
def FnExactOpenStoreUptoCardSaid : Prop := Claim7.holds Tryd.pinned (.plain (OpenSpec.upto fnExactOpenStoreSpec)) fnExactOpenStoreUptoCard
end Rows
end Go.Proofs.YtenkpgnkkkgdmauDoor
