/-
  DERIVED. GIVEN WITH THE SEED: THE CARDS: each row of YtclkfjlnhcccdaaGreatDoorRows.lean that lists a variable, with what it lists TIED to the program's text (the seventh form; the later family's looks); each row that meets fmt, with fmt's text TOLD by the authors' own Lean function (tested against real Go, not proved from fmt's source: count such statements apart). THE CARD IS WHAT COUNTS. Prove the row's statement (the work); the ties are given (YtclkfjlnhcccdaaGreatDoorTie.lean); close each card by the builder's one call (the guide's Derived/Test/ToyasCard.lean, 'card_holds'). Laid BY PROGRAM, IN A SANDBOX (cutbox-door.mjs). By AI agents, Wed Nov 11 2026. No macro, syntax, notation, axiom, sorry.
-/
import Derived.Test.YtclkfjlnhcccdaaGreatDoorRows
import GoSem.ClaimSeven
namespace Go.Proofs.YtclkfjlnhcccdaaGreatDoor
namespace Rows

/-- THE TIED CARD OF 'laws.FnExactSyncAll'. -/
def fnExactSyncAllCard : Claim7 := { stood := { row := fnExactSyncAllRow, standIns := [], harness := (true, "0f7574dd015e3788434fd4044e544ea744747eb2cdf04a06072ecd2ee00f617d"), looks := false }, kinds := [], alts := [], laidByText := true, laidKinds := [.data, .sentinel], laidTests := true, laidLooks := .later }
def FnExactSyncAllCardSaid : Prop := Claim7.holds Tryz.pinned (.plain (OpenSpec.ofChange fnExactSyncAllSpec)) fnExactSyncAllCard

/-- THE TIED CARD OF 'laws.FnExactCrashServer'. -/
def fnExactCrashServerCard : Claim7 := { stood := { row := fnExactCrashServerRow, standIns := [], harness := (true, "0f7574dd015e3788434fd4044e544ea744747eb2cdf04a06072ecd2ee00f617d"), looks := false }, kinds := [], alts := [], laidByText := true, laidKinds := [.data, .sentinel], laidTests := true, laidLooks := .later }
def FnExactCrashServerCardSaid : Prop := Claim7.holds Tryz.pinned (.plain (OpenSpec.ofChange fnExactCrashServerSpec)) fnExactCrashServerCard

/-- THE SECOND FORM's CARD OF 'laws.FnExactSyncAll'. -/
def fnExactSyncAllUptoCard : Claim7 := { stood := { row := fnExactSyncAllUptoRow, standIns := [], harness := (true, "0f7574dd015e3788434fd4044e544ea744747eb2cdf04a06072ecd2ee00f617d"), looks := false }, kinds := [], alts := [], laidByText := true, laidKinds := [.data, .sentinel], laidTests := true, laidLooks := .later }
def FnExactSyncAllUptoCardSaid : Prop := Claim7.holds Tryz.pinned (.plain (OpenSpec.upto fnExactSyncAllSpec)) fnExactSyncAllUptoCard

/-- THE SECOND FORM's CARD OF 'laws.FnExactCrashServer'. -/
def fnExactCrashServerUptoCard : Claim7 := { stood := { row := fnExactCrashServerUptoRow, standIns := [], harness := (true, "0f7574dd015e3788434fd4044e544ea744747eb2cdf04a06072ecd2ee00f617d"), looks := false }, kinds := [], alts := [], laidByText := true, laidKinds := [.data, .sentinel], laidTests := true, laidLooks := .later }
def FnExactCrashServerUptoCardSaid : Prop := Claim7.holds Tryz.pinned (.plain (OpenSpec.upto fnExactCrashServerSpec)) fnExactCrashServerUptoCard
end Rows
end Go.Proofs.YtclkfjlnhcccdaaGreatDoor
