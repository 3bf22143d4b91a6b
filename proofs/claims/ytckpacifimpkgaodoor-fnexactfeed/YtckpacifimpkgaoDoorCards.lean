/-
  DERIVED. GIVEN WITH THE SEED: THE CARDS: each row of YtckpacifimpkgaoDoorRows.lean that lists a variable, with what it lists TIED to the program's text (the seventh form; the later family's looks); each row that meets fmt, with fmt's text TOLD by the authors' own Lean function (tested against real Go, not proved from fmt's source: count such statements apart). THE CARD IS WHAT COUNTS. Prove the row's statement (the work); the ties are given (YtckpacifimpkgaoDoorTie.lean); close each card by the builder's one call (the guide's Derived/Test/ToyasCard.lean, 'card_holds'). Laid BY PROGRAM, IN A SANDBOX (cutbox-door.mjs). By AI agents, Wed Nov 11 2026. No macro, syntax, notation, axiom, sorry.
-/
import Derived.Test.YtckpacifimpkgaoDoorRows
import GoSem.ClaimSeven
namespace Go.Proofs.YtckpacifimpkgaoDoor
namespace Rows

/-- THE TIED CARD OF 'laws.FnExactFeed'. -/
def fnExactFeedCard : Claim7 := { stood := { row := fnExactFeedRow, standIns := [], harness := (true, "975be38dbce74b851f68eb6b5783e75069fafeb2b298d761d448702435e36553"), looks := true }, kinds := [], alts := [], laidByText := true, laidKinds := [.handle], laidTests := true, laidLooks := .later }
def FnExactFeedCardSaid : Prop := Claim7.holds Tryd.pinned (.plain (OpenSpec.ofChange fnExactFeedSpec)) fnExactFeedCard

/-- THE SECOND FORM's CARD OF 'laws.FnExactFeed'. -/
def fnExactFeedUptoCard : Claim7 := { stood := { row := fnExactFeedUptoRow, standIns := [], harness := (true, "975be38dbce74b851f68eb6b5783e75069fafeb2b298d761d448702435e36553"), looks := true }, kinds := [], alts := [], laidByText := true, laidKinds := [.handle], laidTests := true, laidLooks := .later }
def FnExactFeedUptoCardSaid : Prop := Claim7.holds Tryd.pinned (.plain (OpenSpec.upto fnExactFeedSpec)) fnExactFeedUptoCard
end Rows
end Go.Proofs.YtckpacifimpkgaoDoor
