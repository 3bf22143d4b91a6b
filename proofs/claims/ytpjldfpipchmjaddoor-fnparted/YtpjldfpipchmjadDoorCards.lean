/-
  DERIVED. GIVEN WITH THE SEED: THE CARDS: each row of YtpjldfpipchmjadDoorRows.lean that lists a variable, with what it lists TIED to the program's text (the seventh form; the later family's looks); each row that meets fmt, with fmt's text TOLD by the authors' own Lean function (tested against real Go, not proved from fmt's source: count such statements apart). THE CARD IS WHAT COUNTS. Prove the row's statement (the work); the ties are given (YtpjldfpipchmjadDoorTie.lean); close each card by the builder's one call (the guide's Derived/Test/ToyasCard.lean, 'card_holds'). Laid BY PROGRAM, IN A SANDBOX (cutbox-door.mjs). By AI agents, Wed Nov 11 2026. No macro, syntax, notation, axiom, sorry.
-/
import Derived.Test.YtpjldfpipchmjadDoorRows
import GoSem.ClaimSeven
namespace Go.Proofs.YtpjldfpipchmjadDoor
namespace Rows

/-- THE TIED CARD OF 'laws.FnParted'. -/
def fnPartedCard : Claim7 := { stood := { row := fnPartedRow, standIns := [], harness := (true, "ec710ca068b589b2b348ace6652c7bfa3f4b0c3ee1c5bf111441d9bd32d045b8"), looks := true }, kinds := [], alts := [], laidByText := true, laidKinds := [.handle], laidTests := true, laidLooks := .later }
def FnPartedCardSaid : Prop := Claim7.holds Tryd.pinned (.plain (OpenSpec.ofChange fnPartedSpec)) fnPartedCard

/-- THE TIED CARD OF 'laws.FnGathered'. -/
def fnGatheredCard : Claim7 := { stood := { row := fnGatheredRow, standIns := [], harness := (true, "ec710ca068b589b2b348ace6652c7bfa3f4b0c3ee1c5bf111441d9bd32d045b8"), looks := true }, kinds := [], alts := [], laidByText := true, laidKinds := [.handle], laidTests := true, laidLooks := .later }
def FnGatheredCardSaid : Prop := Claim7.holds Tryd.pinned (.plain (OpenSpec.ofChange fnGatheredSpec)) fnGatheredCard

/-- THE TIED CARD OF 'laws.FnStreams'. -/
def fnStreamsCard : Claim7 := { stood := { row := fnStreamsRow, standIns := [], harness := (true, "ec710ca068b589b2b348ace6652c7bfa3f4b0c3ee1c5bf111441d9bd32d045b8"), looks := true }, kinds := [], alts := [], laidByText := true, laidKinds := [.data], laidTests := true, laidLooks := .later }
def FnStreamsCardSaid : Prop := Claim7.holds Tryd.pinned (.plain (OpenSpec.ofChange fnStreamsSpec)) fnStreamsCard

/-- THE SECOND FORM's CARD OF 'laws.FnParted'. -/
def fnPartedUptoCard : Claim7 := { stood := { row := fnPartedUptoRow, standIns := [], harness := (true, "ec710ca068b589b2b348ace6652c7bfa3f4b0c3ee1c5bf111441d9bd32d045b8"), looks := true }, kinds := [], alts := [], laidByText := true, laidKinds := [.handle], laidTests := true, laidLooks := .later }
def FnPartedUptoCardSaid : Prop := Claim7.holds Tryd.pinned (.plain (OpenSpec.upto fnPartedSpec)) fnPartedUptoCard

/-- THE SECOND FORM's CARD OF 'laws.FnGathered'. -/
def fnGatheredUptoCard : Claim7 := { stood := { row := fnGatheredUptoRow, standIns := [], harness := (true, "ec710ca068b589b2b348ace6652c7bfa3f4b0c3ee1c5bf111441d9bd32d045b8"), looks := true }, kinds := [], alts := [], laidByText := true, laidKinds := [.handle], laidTests := true, laidLooks := .later }
def FnGatheredUptoCardSaid : Prop := Claim7.holds Tryd.pinned (.plain (OpenSpec.upto fnGatheredSpec)) fnGatheredUptoCard

/-- THE SECOND FORM's CARD OF 'laws.FnStreams'. -/
def fnStreamsUptoCard : Claim7 := { stood := { row := fnStreamsUptoRow, standIns := [], harness := (true, "ec710ca068b589b2b348ace6652c7bfa3f4b0c3ee1c5bf111441d9bd32d045b8"), looks := true }, kinds := [], alts := [], laidByText := true, laidKinds := [.data], laidTests := true, laidLooks := .later }
def FnStreamsUptoCardSaid : Prop := Claim7.holds Tryd.pinned (.plain (OpenSpec.upto fnStreamsSpec)) fnStreamsUptoCard
end Rows
end Go.Proofs.YtpjldfpipchmjadDoor
