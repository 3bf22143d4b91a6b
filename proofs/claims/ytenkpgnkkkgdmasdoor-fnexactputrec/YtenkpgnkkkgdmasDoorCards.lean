/-
  DERIVED. GIVEN WITH THE SEED: THE CARDS: each row of YtenkpgnkkkgdmasDoorRows.lean that lists a variable, with what it lists TIED to the program's text (the seventh form; the later family's looks); each row that meets fmt, with fmt's text TOLD by the authors' own Lean function (tested against real Go, not proved from fmt's source: count such statements apart). THE CARD IS WHAT COUNTS. Prove the row's statement (the work); the ties are given (YtenkpgnkkkgdmasDoorTie.lean); close each card by the builder's one call (the guide's Derived/Test/ToyasCard.lean, 'card_holds'). Laid BY PROGRAM, IN A SANDBOX (cutbox-door.mjs). By AI agents, Wed Nov 11 2026. No macro, syntax, notation, axiom, sorry.
-/
import Derived.Test.YtenkpgnkkkgdmasDoorRows
import GoSem.ClaimSeven
namespace Go.Proofs.YtenkpgnkkkgdmasDoor
namespace Rows

/-- THE TIED CARD OF 'laws.FnExactRecOk'. -/
def fnExactRecOkCard : Claim7 := { stood := { row := fnExactRecOkRow, standIns := [], harness := (true, "cf2431309a316c9fea1b395cbc4572933534802e746f79053c1ba4952e0779ab"), looks := false }, kinds := [], alts := [], laidByText := true, laidKinds := [.data], laidTests := true, laidLooks := .later }
def FnExactRecOkCardSaid : Prop := Claim7.holds Tryd.pinned (.plain (OpenSpec.ofChange fnExactRecOkSpec)) fnExactRecOkCard

/-- THE TIED CARD OF 'laws.FnExactPutRec'. -/
def fnExactPutRecCard : Claim7 := { stood := { row := fnExactPutRecRow, standIns := [], harness := (true, "cf2431309a316c9fea1b395cbc4572933534802e746f79053c1ba4952e0779ab"), looks := false }, kinds := [], alts := [], laidByText := true, laidKinds := [.data], laidTests := true, laidLooks := .later }
def FnExactPutRecCardSaid : Prop := Claim7.holds Tryd.pinned (.plain (OpenSpec.ofChange fnExactPutRecSpec)) fnExactPutRecCard

/-- THE TIED CARD OF 'laws.FnExactGetRec'. -/
def fnExactGetRecCard : Claim7 := { stood := { row := fnExactGetRecRow, standIns := [], harness := (true, "cf2431309a316c9fea1b395cbc4572933534802e746f79053c1ba4952e0779ab"), looks := false }, kinds := [], alts := [], laidByText := true, laidKinds := [.data], laidTests := true, laidLooks := .later }
def FnExactGetRecCardSaid : Prop := Claim7.holds Tryd.pinned (.plain (OpenSpec.ofChange fnExactGetRecSpec)) fnExactGetRecCard

/-- THE TIED CARD OF 'laws.FnExactScanRecs'. -/
def fnExactScanRecsCard : Claim7 := { stood := { row := fnExactScanRecsRow, standIns := [], harness := (true, "cf2431309a316c9fea1b395cbc4572933534802e746f79053c1ba4952e0779ab"), looks := false }, kinds := [], alts := [], laidByText := true, laidKinds := [.data], laidTests := true, laidLooks := .later }
def FnExactScanRecsCardSaid : Prop := Claim7.holds Tryd.pinned (.plain (OpenSpec.ofChange fnExactScanRecsSpec)) fnExactScanRecsCard

/-- THE SECOND FORM's CARD OF 'laws.FnExactRecOk'. -/
def fnExactRecOkUptoCard : Claim7 := { stood := { row := fnExactRecOkUptoRow, standIns := [], harness := (true, "cf2431309a316c9fea1b395cbc4572933534802e746f79053c1ba4952e0779ab"), looks := false }, kinds := [], alts := [], laidByText := true, laidKinds := [.data], laidTests := true, laidLooks := .later }
def FnExactRecOkUptoCardSaid : Prop := Claim7.holds Tryd.pinned (.plain (OpenSpec.upto fnExactRecOkSpec)) fnExactRecOkUptoCard

/-- THE SECOND FORM's CARD OF 'laws.FnExactPutRec'. -/
def fnExactPutRecUptoCard : Claim7 := { stood := { row := fnExactPutRecUptoRow, standIns := [], harness := (true, "cf2431309a316c9fea1b395cbc4572933534802e746f79053c1ba4952e0779ab"), looks := false }, kinds := [], alts := [], laidByText := true, laidKinds := [.data], laidTests := true, laidLooks := .later }
def FnExactPutRecUptoCardSaid : Prop := Claim7.holds Tryd.pinned (.plain (OpenSpec.upto fnExactPutRecSpec)) fnExactPutRecUptoCard

/-- THE SECOND FORM's CARD OF 'laws.FnExactGetRec'. -/
def fnExactGetRecUptoCard : Claim7 := { stood := { row := fnExactGetRecUptoRow, standIns := [], harness := (true, "cf2431309a316c9fea1b395cbc4572933534802e746f79053c1ba4952e0779ab"), looks := false }, kinds := [], alts := [], laidByText := true, laidKinds := [.data], laidTests := true, laidLooks := .later }
def FnExactGetRecUptoCardSaid : Prop := Claim7.holds Tryd.pinned (.plain (OpenSpec.upto fnExactGetRecSpec)) fnExactGetRecUptoCard

/-- THE SECOND FORM's CARD OF 'laws.FnExactScanRecs'. -/
def fnExactScanRecsUptoCard : Claim7 := { stood := { row := fnExactScanRecsUptoRow, standIns := [], harness := (true, "cf2431309a316c9fea1b395cbc4572933534802e746f79053c1ba4952e0779ab"), looks := false }, kinds := [], alts := [], laidByText := true, laidKinds := [.data], laidTests := true, laidLooks := .later }
def FnExactScanRecsUptoCardSaid : Prop := Claim7.holds Tryd.pinned (.plain (OpenSpec.upto fnExactScanRecsSpec)) fnExactScanRecsUptoCard
end Rows
end Go.Proofs.YtenkpgnkkkgdmasDoor
