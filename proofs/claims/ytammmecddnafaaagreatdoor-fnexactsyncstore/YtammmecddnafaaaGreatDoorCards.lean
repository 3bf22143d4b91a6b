/-
  DERIVED. GIVEN WITH THE SEED: THE CARDS: each row of YtammmecddnafaaaGreatDoorRows.lean that lists a variable, with what it lists TIED to the program's text (the seventh form; the later family's looks); each row that meets fmt, with fmt's text TOLD by the authors' own Lean function (tested against real Go, not proved from fmt's source: count such statements apart). THE CARD IS WHAT COUNTS. Prove the row's statement (the work); the ties are given (YtammmecddnafaaaGreatDoorTie.lean); close each card by the builder's one call (the guide's Derived/Test/ToyasCard.lean, 'card_holds'). Laid BY PROGRAM, IN A SANDBOX (cutbox-door.mjs). By AI agents, Wed Nov 11 2026. No macro, syntax, notation, axiom, sorry.
-/
import Derived.Test.YtammmecddnafaaaGreatDoorRows
import GoSem.ClaimSeven
namespace Go.Proofs.YtammmecddnafaaaGreatDoor
namespace Rows

/-- THE TIED CARD OF 'laws.FnExactMakeUp'. -/
def fnExactMakeUpCard : Claim7 := { stood := { row := fnExactMakeUpRow, standIns := [], harness := (true, "b53e2f1d76fe9cc208c6233c96bd2600d7f4640d2d9e89d18693486fd644d5bc"), looks := false }, kinds := [], alts := [], laidByText := true, laidKinds := [.data, .sentinel], laidTests := true, laidLooks := .later }
def FnExactMakeUpCardSaid : Prop := Claim7.holds Tryz.pinned (.plain (OpenSpec.ofChange fnExactMakeUpSpec)) fnExactMakeUpCard

/-- THE TIED CARD OF 'laws.FnExactPutUp'. -/
def fnExactPutUpCard : Claim7 := { stood := { row := fnExactPutUpRow, standIns := [], harness := (true, "b53e2f1d76fe9cc208c6233c96bd2600d7f4640d2d9e89d18693486fd644d5bc"), looks := false }, kinds := [], alts := [], laidByText := true, laidKinds := [.data, .sentinel], laidTests := true, laidLooks := .later }
def FnExactPutUpCardSaid : Prop := Claim7.holds Tryz.pinned (.plain (OpenSpec.ofChange fnExactPutUpSpec)) fnExactPutUpCard

/-- THE TIED CARD OF 'laws.FnExactDropUp'. -/
def fnExactDropUpCard : Claim7 := { stood := { row := fnExactDropUpRow, standIns := [], harness := (true, "b53e2f1d76fe9cc208c6233c96bd2600d7f4640d2d9e89d18693486fd644d5bc"), looks := false }, kinds := [], alts := [], laidByText := true, laidKinds := [.data, .sentinel], laidTests := true, laidLooks := .later }
def FnExactDropUpCardSaid : Prop := Claim7.holds Tryz.pinned (.plain (OpenSpec.ofChange fnExactDropUpSpec)) fnExactDropUpCard

/-- THE TIED CARD OF 'laws.FnExactSyncStore'. -/
def fnExactSyncStoreCard : Claim7 := { stood := { row := fnExactSyncStoreRow, standIns := [], harness := (true, "b53e2f1d76fe9cc208c6233c96bd2600d7f4640d2d9e89d18693486fd644d5bc"), looks := false }, kinds := [], alts := [], laidByText := true, laidKinds := [.data, .sentinel], laidTests := true, laidLooks := .later }
def FnExactSyncStoreCardSaid : Prop := Claim7.holds Tryz.pinned (.plain (OpenSpec.ofChange fnExactSyncStoreSpec)) fnExactSyncStoreCard

/-- THE SECOND FORM's CARD OF 'laws.FnExactMakeUp'. -/
def fnExactMakeUpUptoCard : Claim7 := { stood := { row := fnExactMakeUpUptoRow, standIns := [], harness := (true, "b53e2f1d76fe9cc208c6233c96bd2600d7f4640d2d9e89d18693486fd644d5bc"), looks := false }, kinds := [], alts := [], laidByText := true, laidKinds := [.data, .sentinel], laidTests := true, laidLooks := .later }
def FnExactMakeUpUptoCardSaid : Prop := Claim7.holds Tryz.pinned (.plain (OpenSpec.upto fnExactMakeUpSpec)) fnExactMakeUpUptoCard

/-- THE SECOND FORM's CARD OF 'laws.FnExactPutUp'. -/
def fnExactPutUpUptoCard : Claim7 := { stood := { row := fnExactPutUpUptoRow, standIns := [], harness := (true, "b53e2f1d76fe9cc208c6233c96bd2600d7f4640d2d9e89d18693486fd644d5bc"), looks := false }, kinds := [], alts := [], laidByText := true, laidKinds := [.data, .sentinel], laidTests := true, laidLooks := .later }
def FnExactPutUpUptoCardSaid : Prop := Claim7.holds Tryz.pinned (.plain (OpenSpec.upto fnExactPutUpSpec)) fnExactPutUpUptoCard

/-- THE SECOND FORM's CARD OF 'laws.FnExactDropUp'. -/
def fnExactDropUpUptoCard : Claim7 := { stood := { row := fnExactDropUpUptoRow, standIns := [], harness := (true, "b53e2f1d76fe9cc208c6233c96bd2600d7f4640d2d9e89d18693486fd644d5bc"), looks := false }, kinds := [], alts := [], laidByText := true, laidKinds := [.data, .sentinel], laidTests := true, laidLooks := .later }
def FnExactDropUpUptoCardSaid : Prop := Claim7.holds Tryz.pinned (.plain (OpenSpec.upto fnExactDropUpSpec)) fnExactDropUpUptoCard

/-- THE SECOND FORM's CARD OF 'laws.FnExactSyncStore'. -/
def fnExactSyncStoreUptoCard : Claim7 := { stood := { row := fnExactSyncStoreUptoRow, standIns := [], harness := (true, "b53e2f1d76fe9cc208c6233c96bd2600d7f4640d2d9e89d18693486fd644d5bc"), looks := false }, kinds := [], alts := [], laidByText := true, laidKinds := [.data, .sentinel], laidTests := true, laidLooks := .later }
def FnExactSyncStoreUptoCardSaid : Prop := Claim7.holds Tryz.pinned (.plain (OpenSpec.upto fnExactSyncStoreSpec)) fnExactSyncStoreUptoCard
end Rows
end Go.Proofs.YtammmecddnafaaaGreatDoor
