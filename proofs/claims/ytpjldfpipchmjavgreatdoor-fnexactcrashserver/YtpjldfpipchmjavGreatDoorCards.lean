/-
  DERIVED. GIVEN WITH THE SEED: THE CARDS: each row of YtpjldfpipchmjavGreatDoorRows.lean that lists a variable, with what it lists TIED to the program's text (the seventh form; the later family's looks); each row that meets fmt, with fmt's text TOLD by the authors' own Lean function (tested against real Go, not proved from fmt's source: count such statements apart). THE CARD IS WHAT COUNTS. Prove the row's statement (the work); the ties are given (YtpjldfpipchmjavGreatDoorTie.lean); close each card by the builder's one call (the guide's Derived/Test/ToyasCard.lean, 'card_holds'). Laid BY PROGRAM, IN A SANDBOX (cutbox-door.mjs). By AI agents, Wed Nov 11 2026. No macro, syntax, notation, axiom, sorry.
-/
import Derived.Test.YtpjldfpipchmjavGreatDoorRows
import GoSem.ClaimSeven
namespace Go.Proofs.YtpjldfpipchmjavGreatDoor
namespace Rows

/-- THE TIED CARD OF 'laws.FnExactServerOk'. -/
def fnExactServerOkCard : Claim7 := { stood := { row := fnExactServerOkRow, standIns := [], harness := (true, "33dcee575db73b15ae19a1850fc3bba68824379ddf3e3a2d6a864311dc87da59"), looks := false }, kinds := [], alts := [], laidByText := true, laidKinds := [.data, .sentinel], laidTests := true, laidLooks := .later }
def FnExactServerOkCardSaid : Prop := Claim7.holds Tryz.pinned (.plain (OpenSpec.ofChange fnExactServerOkSpec)) fnExactServerOkCard

/-- THE TIED CARD OF 'laws.FnExactServe'. -/
def fnExactServeCard : Claim7 := { stood := { row := fnExactServeRow, standIns := [], harness := (true, "33dcee575db73b15ae19a1850fc3bba68824379ddf3e3a2d6a864311dc87da59"), looks := false }, kinds := [], alts := [], laidByText := true, laidKinds := [.data, .data, .sentinel, .data], laidTests := true, laidLooks := .later }
def FnExactServeCardSaid : Prop := Claim7.holds Tryz.pinned (.plain (OpenSpec.ofChange fnExactServeSpec)) fnExactServeCard

/-- THE TIED CARD OF 'laws.FnExactSyncAll'. -/
def fnExactSyncAllCard : Claim7 := { stood := { row := fnExactSyncAllRow, standIns := [], harness := (true, "33dcee575db73b15ae19a1850fc3bba68824379ddf3e3a2d6a864311dc87da59"), looks := false }, kinds := [], alts := [], laidByText := true, laidKinds := [.data, .sentinel], laidTests := true, laidLooks := .later }
def FnExactSyncAllCardSaid : Prop := Claim7.holds Tryz.pinned (.plain (OpenSpec.ofChange fnExactSyncAllSpec)) fnExactSyncAllCard

/-- THE TIED CARD OF 'laws.FnExactCrashServer'. -/
def fnExactCrashServerCard : Claim7 := { stood := { row := fnExactCrashServerRow, standIns := [], harness := (true, "33dcee575db73b15ae19a1850fc3bba68824379ddf3e3a2d6a864311dc87da59"), looks := false }, kinds := [], alts := [], laidByText := true, laidKinds := [.data, .sentinel], laidTests := true, laidLooks := .later }
def FnExactCrashServerCardSaid : Prop := Claim7.holds Tryz.pinned (.plain (OpenSpec.ofChange fnExactCrashServerSpec)) fnExactCrashServerCard

/-- THE SECOND FORM's CARD OF 'laws.FnExactServerOk'. -/
def fnExactServerOkUptoCard : Claim7 := { stood := { row := fnExactServerOkUptoRow, standIns := [], harness := (true, "33dcee575db73b15ae19a1850fc3bba68824379ddf3e3a2d6a864311dc87da59"), looks := false }, kinds := [], alts := [], laidByText := true, laidKinds := [.data, .sentinel], laidTests := true, laidLooks := .later }
def FnExactServerOkUptoCardSaid : Prop := Claim7.holds Tryz.pinned (.plain (OpenSpec.upto fnExactServerOkSpec)) fnExactServerOkUptoCard

/-- THE SECOND FORM's CARD OF 'laws.FnExactServe'. -/
def fnExactServeUptoCard : Claim7 := { stood := { row := fnExactServeUptoRow, standIns := [], harness := (true, "33dcee575db73b15ae19a1850fc3bba68824379ddf3e3a2d6a864311dc87da59"), looks := false }, kinds := [], alts := [], laidByText := true, laidKinds := [.data, .data, .sentinel, .data], laidTests := true, laidLooks := .later }
def FnExactServeUptoCardSaid : Prop := Claim7.holds Tryz.pinned (.plain (OpenSpec.upto fnExactServeSpec)) fnExactServeUptoCard

/-- THE SECOND FORM's CARD OF 'laws.FnExactSyncAll'. -/
def fnExactSyncAllUptoCard : Claim7 := { stood := { row := fnExactSyncAllUptoRow, standIns := [], harness := (true, "33dcee575db73b15ae19a1850fc3bba68824379ddf3e3a2d6a864311dc87da59"), looks := false }, kinds := [], alts := [], laidByText := true, laidKinds := [.data, .sentinel], laidTests := true, laidLooks := .later }
def FnExactSyncAllUptoCardSaid : Prop := Claim7.holds Tryz.pinned (.plain (OpenSpec.upto fnExactSyncAllSpec)) fnExactSyncAllUptoCard

/-- THE SECOND FORM's CARD OF 'laws.FnExactCrashServer'. -/
def fnExactCrashServerUptoCard : Claim7 := { stood := { row := fnExactCrashServerUptoRow, standIns := [], harness := (true, "33dcee575db73b15ae19a1850fc3bba68824379ddf3e3a2d6a864311dc87da59"), looks := false }, kinds := [], alts := [], laidByText := true, laidKinds := [.data, .sentinel], laidTests := true, laidLooks := .later }
def FnExactCrashServerUptoCardSaid : Prop := Claim7.holds Tryz.pinned (.plain (OpenSpec.upto fnExactCrashServerSpec)) fnExactCrashServerUptoCard
end Rows
end Go.Proofs.YtpjldfpipchmjavGreatDoor
