/-
  DERIVED. GIVEN WITH THE SEED: THE CARDS: each row of YtcfinhepcpjcnaoDoorRows.lean that lists a variable, with what it lists TIED to the program's text (the seventh form; the later family's looks); each row that meets fmt, with fmt's text TOLD by the authors' own Lean function (tested against real Go, not proved from fmt's source: count such statements apart). THE CARD IS WHAT COUNTS. Prove the row's statement (the work); the ties are given (YtcfinhepcpjcnaoDoorTie.lean); close each card by the builder's one call (the guide's Derived/Test/ToyasCard.lean, 'card_holds'). Laid BY PROGRAM, IN A SANDBOX (cutbox-door.mjs). By AI agents, Wed Nov 11 2026. No macro, syntax, notation, axiom, sorry.
-/
import Derived.Test.YtcfinhepcpjcnaoDoorRows
import GoSem.ClaimSeven
namespace Go.Proofs.YtcfinhepcpjcnaoDoor
namespace Rows

/-- THE TIED CARD OF 'laws.FnExactFeed'. -/
def fnExactFeedCard : Claim7 := { stood := { row := fnExactFeedRow, standIns := [], harness := (true, "a48be528e0255d6bf5dce1e369784174eef6f400760f07c16181b4f221a88266"), looks := true }, kinds := [], alts := [], laidByText := true, laidKinds := [.handle], laidTests := true, laidLooks := .later }
def FnExactFeedCardSaid : Prop := Claim7.holds Tryd.pinned (.plain (OpenSpec.ofChange fnExactFeedSpec)) fnExactFeedCard

/-- THE TIED CARD OF 'laws.FnExactStreamStep'. -/
def fnExactStreamStepCard : Claim7 := { stood := { row := fnExactStreamStepRow, standIns := [], harness := (true, "a48be528e0255d6bf5dce1e369784174eef6f400760f07c16181b4f221a88266"), looks := true }, kinds := [], alts := [], laidByText := true, laidKinds := [.data], laidTests := true, laidLooks := .later }
def FnExactStreamStepCardSaid : Prop := Claim7.holds Tryd.pinned (.plain (OpenSpec.ofChange fnExactStreamStepSpec)) fnExactStreamStepCard

/-- THE TIED CARD OF 'laws.FnExactStreamRun'. -/
def fnExactStreamRunCard : Claim7 := { stood := { row := fnExactStreamRunRow, standIns := [], harness := (true, "a48be528e0255d6bf5dce1e369784174eef6f400760f07c16181b4f221a88266"), looks := true }, kinds := [], alts := [], laidByText := true, laidKinds := [.data], laidTests := true, laidLooks := .later }
def FnExactStreamRunCardSaid : Prop := Claim7.holds Tryd.pinned (.plain (OpenSpec.ofChange fnExactStreamRunSpec)) fnExactStreamRunCard

/-- THE TIED CARD OF 'laws.FnExactMayPut'. -/
def fnExactMayPutCard : Claim7 := { stood := { row := fnExactMayPutRow, standIns := [], harness := (true, "a48be528e0255d6bf5dce1e369784174eef6f400760f07c16181b4f221a88266"), looks := true }, kinds := [], alts := [], laidByText := true, laidKinds := [.data], laidTests := true, laidLooks := .later }
def FnExactMayPutCardSaid : Prop := Claim7.holds Tryd.pinned (.plain (OpenSpec.ofChange fnExactMayPutSpec)) fnExactMayPutCard

/-- THE TIED CARD OF 'laws.FnExactMayGet'. -/
def fnExactMayGetCard : Claim7 := { stood := { row := fnExactMayGetRow, standIns := [], harness := (true, "a48be528e0255d6bf5dce1e369784174eef6f400760f07c16181b4f221a88266"), looks := true }, kinds := [], alts := [], laidByText := true, laidKinds := [.data], laidTests := true, laidLooks := .later }
def FnExactMayGetCardSaid : Prop := Claim7.holds Tryd.pinned (.plain (OpenSpec.ofChange fnExactMayGetSpec)) fnExactMayGetCard

/-- THE SECOND FORM's CARD OF 'laws.FnExactFeed'. -/
def fnExactFeedUptoCard : Claim7 := { stood := { row := fnExactFeedUptoRow, standIns := [], harness := (true, "a48be528e0255d6bf5dce1e369784174eef6f400760f07c16181b4f221a88266"), looks := true }, kinds := [], alts := [], laidByText := true, laidKinds := [.handle], laidTests := true, laidLooks := .later }
def FnExactFeedUptoCardSaid : Prop := Claim7.holds Tryd.pinned (.plain (OpenSpec.upto fnExactFeedSpec)) fnExactFeedUptoCard

/-- THE SECOND FORM's CARD OF 'laws.FnExactStreamStep'. -/
def fnExactStreamStepUptoCard : Claim7 := { stood := { row := fnExactStreamStepUptoRow, standIns := [], harness := (true, "a48be528e0255d6bf5dce1e369784174eef6f400760f07c16181b4f221a88266"), looks := true }, kinds := [], alts := [], laidByText := true, laidKinds := [.data], laidTests := true, laidLooks := .later }
def FnExactStreamStepUptoCardSaid : Prop := Claim7.holds Tryd.pinned (.plain (OpenSpec.upto fnExactStreamStepSpec)) fnExactStreamStepUptoCard

/-- THE SECOND FORM's CARD OF 'laws.FnExactStreamRun'. -/
def fnExactStreamRunUptoCard : Claim7 := { stood := { row := fnExactStreamRunUptoRow, standIns := [], harness := (true, "a48be528e0255d6bf5dce1e369784174eef6f400760f07c16181b4f221a88266"), looks := true }, kinds := [], alts := [], laidByText := true, laidKinds := [.data], laidTests := true, laidLooks := .later }
def FnExactStreamRunUptoCardSaid : Prop := Claim7.holds Tryd.pinned (.plain (OpenSpec.upto fnExactStreamRunSpec)) fnExactStreamRunUptoCard

/-- THE SECOND FORM's CARD OF 'laws.FnExactMayPut'. -/
def fnExactMayPutUptoCard : Claim7 := { stood := { row := fnExactMayPutUptoRow, standIns := [], harness := (true, "a48be528e0255d6bf5dce1e369784174eef6f400760f07c16181b4f221a88266"), looks := true }, kinds := [], alts := [], laidByText := true, laidKinds := [.data], laidTests := true, laidLooks := .later }
def FnExactMayPutUptoCardSaid : Prop := Claim7.holds Tryd.pinned (.plain (OpenSpec.upto fnExactMayPutSpec)) fnExactMayPutUptoCard

/-- THE SECOND FORM's CARD OF 'laws.FnExactMayGet'. -/
def fnExactMayGetUptoCard : Claim7 := { stood := { row := fnExactMayGetUptoRow, standIns := [], harness := (true, "a48be528e0255d6bf5dce1e369784174eef6f400760f07c16181b4f221a88266"), looks := true }, kinds := [], alts := [], laidByText := true, laidKinds := [.data], laidTests := true, laidLooks := .later }
def FnExactMayGetUptoCardSaid : Prop := Claim7.holds Tryd.pinned (.plain (OpenSpec.upto fnExactMayGetSpec)) fnExactMayGetUptoCard
end Rows
end Go.Proofs.YtcfinhepcpjcnaoDoor
