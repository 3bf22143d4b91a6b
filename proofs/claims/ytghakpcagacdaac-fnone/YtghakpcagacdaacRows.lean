/-
  No cell of these rows narrows 'for every input' (looked for: loops, veiled, ifaces, maps, wideKeys, modest, calm, conditions, laid).
  DERIVED. THE GIVEN ROWS OF THIS SEAT. 5 by the template 'for every input the law returns true; each argument reads behind the call as it read before'; 0 by the template 'total and deterministic' (their statements: YtghakpcagacdaacTotals.lean).
  GIVEN WITH THE SEED: the statements are not yours to turn. If you find one false, say at which input.
  Laid BY PROGRAM, IN A SANDBOX (cutbox-rows.mjs): the forced cells as the released guide's own fill.sh prints them over the translation f8d1d576ecc3b264… (all of the seat's roots in one cut). By AI agents, Wed Nov 11 2026. No macro, syntax, notation, axiom, sorry.
-/
import Derived.Test.YtghakpcagacdaacChecked
import GoSem.Claim
import GoSem.ClaimJoined
import GoSem.ClaimMapViews
import Derived.JoinedTies
import Derived.KernelRfl
namespace Go.Proofs.Ytghakpcagacdaac
/- THE CELL 'sum', in the pinned program and in every row, IS THE sha256 OF THE DUMP (.gsa) THAT YtghakpcagacdaacProg.lean LOADS. Nothing in Lean hashes anything: it is a label: what it is worth is what the hold of that sum in a sandbox is worth. -/
noncomputable def Try.pinned : Pinned := { name := "ytghakpcagacdaac", sum := "f8d1d576ecc3b264932ef5e15d69da6fab910e29849349c3fccb1b1086d20901", checked := Try.checked }
namespace Rows
def none {H : Type} : Left H := { results := [], args := [] }

/-- 'laws.FnHeaders': WHATEVER THE INPUT: true; the input reads as it did. -/
def fnHeadersSpec : ChangeSpec := { name := "fnHeaders", fn := fun _ => fun
  | [d] => { results := [.lit (.bool true)], args := [d] }
  | _ => none }
def fnHeadersRow : OpenClaim := { program := "ytghakpcagacdaac", sum := "f8d1d576ecc3b264932ef5e15d69da6fab910e29849349c3fccb1b1086d20901", func := "loop.example/g00199/laws.FnHeaders", spec := "fnHeaders", unfollowed := true, recurses := true, plainKeys := false, apart := false }
def FnHeadersSaid : Prop := fnHeadersRow.holds Try.pinned (OpenSpec.ofChange fnHeadersSpec)

/-- ITS FALSE NEIGHBOUR: 'it returns false'. Refute it at one input. -/
def fnHeadersWrong : ChangeSpec := { name := "fnHeaders", fn := fun _ => fun
  | [d] => { results := [.lit (.bool false)], args := [d] }
  | _ => none }
def FnHeadersWrongFalsely : Prop := fnHeadersRow.holds Try.pinned (OpenSpec.ofChange fnHeadersWrong)

/-- 'laws.FnOne': WHATEVER THE INPUT: true; the input reads as it did. -/
def fnOneSpec : ChangeSpec := { name := "fnOne", fn := fun _ => fun
  | [d] => { results := [.lit (.bool true)], args := [d] }
  | _ => none }
def fnOneRow : OpenClaim := { program := "ytghakpcagacdaac", sum := "f8d1d576ecc3b264932ef5e15d69da6fab910e29849349c3fccb1b1086d20901", func := "loop.example/g00199/laws.FnOne", spec := "fnOne", unfollowed := true, recurses := true, plainKeys := false, apart := false }
def FnOneSaid : Prop := fnOneRow.holds Try.pinned (OpenSpec.ofChange fnOneSpec)

/-- ITS FALSE NEIGHBOUR: 'it returns false'. Refute it at one input. -/
def fnOneWrong : ChangeSpec := { name := "fnOne", fn := fun _ => fun
  | [d] => { results := [.lit (.bool false)], args := [d] }
  | _ => none }
def FnOneWrongFalsely : Prop := fnOneRow.holds Try.pinned (OpenSpec.ofChange fnOneWrong)

/-- 'laws.FnFrames': WHATEVER THE INPUT: true; the input reads as it did. -/
def fnFramesSpec : ChangeSpec := { name := "fnFrames", fn := fun _ => fun
  | [d] => { results := [.lit (.bool true)], args := [d] }
  | _ => none }
def fnFramesRow : OpenClaim := { program := "ytghakpcagacdaac", sum := "f8d1d576ecc3b264932ef5e15d69da6fab910e29849349c3fccb1b1086d20901", func := "loop.example/g00199/laws.FnFrames", spec := "fnFrames", plainKeys := false, apart := false }
def FnFramesSaid : Prop := fnFramesRow.holds Try.pinned (OpenSpec.ofChange fnFramesSpec)

/-- ITS FALSE NEIGHBOUR: 'it returns false'. Refute it at one input. -/
def fnFramesWrong : ChangeSpec := { name := "fnFrames", fn := fun _ => fun
  | [d] => { results := [.lit (.bool false)], args := [d] }
  | _ => none }
def FnFramesWrongFalsely : Prop := fnFramesRow.holds Try.pinned (OpenSpec.ofChange fnFramesWrong)

/-- 'laws.FnOneFrame': WHATEVER THE INPUT: true; the input reads as it did. -/
def fnOneFrameSpec : ChangeSpec := { name := "fnOneFrame", fn := fun _ => fun
  | [d] => { results := [.lit (.bool true)], args := [d] }
  | _ => none }
def fnOneFrameRow : OpenClaim := { program := "ytghakpcagacdaac", sum := "f8d1d576ecc3b264932ef5e15d69da6fab910e29849349c3fccb1b1086d20901", func := "loop.example/g00199/laws.FnOneFrame", spec := "fnOneFrame", plainKeys := false, apart := false }
def FnOneFrameSaid : Prop := fnOneFrameRow.holds Try.pinned (OpenSpec.ofChange fnOneFrameSpec)

/-- ITS FALSE NEIGHBOUR: 'it returns false'. Refute it at one input. -/
def fnOneFrameWrong : ChangeSpec := { name := "fnOneFrame", fn := fun _ => fun
  | [d] => { results := [.lit (.bool false)], args := [d] }
  | _ => none }
def FnOneFrameWrongFalsely : Prop := fnOneFrameRow.holds Try.pinned (OpenSpec.ofChange fnOneFrameWrong)

/-- 'laws.FnSettings': WHATEVER THE INPUT: true; the input reads as it did. -/
def fnSettingsSpec : ChangeSpec := { name := "fnSettings", fn := fun _ => fun
  | [d] => { results := [.lit (.bool true)], args := [d] }
  | _ => none }
def fnSettingsRow : OpenClaim := { program := "ytghakpcagacdaac", sum := "f8d1d576ecc3b264932ef5e15d69da6fab910e29849349c3fccb1b1086d20901", func := "loop.example/g00199/laws.FnSettings", spec := "fnSettings", plainKeys := false, apart := false }
def FnSettingsSaid : Prop := fnSettingsRow.holds Try.pinned (OpenSpec.ofChange fnSettingsSpec)

/-- ITS FALSE NEIGHBOUR: 'it returns false'. Refute it at one input. -/
def fnSettingsWrong : ChangeSpec := { name := "fnSettings", fn := fun _ => fun
  | [d] => { results := [.lit (.bool false)], args := [d] }
  | _ => none }
def FnSettingsWrongFalsely : Prop := fnSettingsRow.holds Try.pinned (OpenSpec.ofChange fnSettingsWrong)

/- THE SECOND FORM. 'bulk': how many values and letters a reading holds, each counted each time it is reached (what is shared counts as often as it is met; a slice's spare places count too). A statement '..UptoSaid' is the law's where the arguments, and the package variables that the reading takes, are together of bulk at most 1048576: NARROWER than '..Said'. Prove '..Said' where nothing that the law and all that it calls make is longer than what came in: it says more and counts as full. Else prove '..UptoSaid'. A law counts once. -/
mutual
def uptoBulk {H : Type} : DataW H → Nat
  | .lit (.string bytes) => bytes.length + 1
  | .lit _ => 1
  | .nil => 1
  | .ptr d => uptoBulk d + 1
  | .slice elems spare => uptoBulkAll elems + uptoBulkAll spare + 1
  | .agg parts => uptoBulkAll parts + 1
  | .iface _ d => uptoBulk d + 1
  | .map entries => uptoBulkEntries entries + 1
  | .held _ => 1
def uptoBulkAll {H : Type} : List (DataW H) → Nat
  | [] => 0
  | d :: r => uptoBulk d + uptoBulkAll r
def uptoBulkEntries {H : Type} : List (Lit × DataW H) → Nat
  | [] => 0
  | x :: r => uptoBulkEntry x + uptoBulkEntries r
def uptoBulkEntry {H : Type} : Lit × DataW H → Nat
  | (.string bytes, d) => bytes.length + uptoBulk d + 1
  | (_, d) => uptoBulk d + 1
 end
def uptoSmall : (H : Type) → List (DataW H) → Bool := fun _ ds => decide (uptoBulkAll ds ≤ 1048576)
def OpenSpec.upto (s : _root_.Go.ChangeSpec) : _root_.Go.OpenSpec := { _root_.Go.OpenSpec.ofChange s with cond := some uptoSmall }

/-- 'laws.FnHeaders', WHERE WHAT IT READS IS OF BULK AT MOST 1048576: true; the input reads as it did. -/
def fnHeadersUptoRow : OpenClaim := { program := "ytghakpcagacdaac", sum := "f8d1d576ecc3b264932ef5e15d69da6fab910e29849349c3fccb1b1086d20901", func := "loop.example/g00199/laws.FnHeaders", spec := "fnHeaders", unfollowed := true, recurses := true, plainKeys := false, apart := false, narrowed := true }
def FnHeadersUptoSaid : Prop := fnHeadersUptoRow.holds Try.pinned (OpenSpec.upto fnHeadersSpec)

/-- 'laws.FnOne', WHERE WHAT IT READS IS OF BULK AT MOST 1048576: true; the input reads as it did. -/
def fnOneUptoRow : OpenClaim := { program := "ytghakpcagacdaac", sum := "f8d1d576ecc3b264932ef5e15d69da6fab910e29849349c3fccb1b1086d20901", func := "loop.example/g00199/laws.FnOne", spec := "fnOne", unfollowed := true, recurses := true, plainKeys := false, apart := false, narrowed := true }
def FnOneUptoSaid : Prop := fnOneUptoRow.holds Try.pinned (OpenSpec.upto fnOneSpec)

/-- 'laws.FnFrames', WHERE WHAT IT READS IS OF BULK AT MOST 1048576: true; the input reads as it did. -/
def fnFramesUptoRow : OpenClaim := { program := "ytghakpcagacdaac", sum := "f8d1d576ecc3b264932ef5e15d69da6fab910e29849349c3fccb1b1086d20901", func := "loop.example/g00199/laws.FnFrames", spec := "fnFrames", plainKeys := false, apart := false, narrowed := true }
def FnFramesUptoSaid : Prop := fnFramesUptoRow.holds Try.pinned (OpenSpec.upto fnFramesSpec)

/-- 'laws.FnOneFrame', WHERE WHAT IT READS IS OF BULK AT MOST 1048576: true; the input reads as it did. -/
def fnOneFrameUptoRow : OpenClaim := { program := "ytghakpcagacdaac", sum := "f8d1d576ecc3b264932ef5e15d69da6fab910e29849349c3fccb1b1086d20901", func := "loop.example/g00199/laws.FnOneFrame", spec := "fnOneFrame", plainKeys := false, apart := false, narrowed := true }
def FnOneFrameUptoSaid : Prop := fnOneFrameUptoRow.holds Try.pinned (OpenSpec.upto fnOneFrameSpec)

/-- 'laws.FnSettings', WHERE WHAT IT READS IS OF BULK AT MOST 1048576: true; the input reads as it did. -/
def fnSettingsUptoRow : OpenClaim := { program := "ytghakpcagacdaac", sum := "f8d1d576ecc3b264932ef5e15d69da6fab910e29849349c3fccb1b1086d20901", func := "loop.example/g00199/laws.FnSettings", spec := "fnSettings", plainKeys := false, apart := false, narrowed := true }
def FnSettingsUptoSaid : Prop := fnSettingsUptoRow.holds Try.pinned (OpenSpec.upto fnSettingsSpec)

end Rows
end Go.Proofs.Ytghakpcagacdaac
