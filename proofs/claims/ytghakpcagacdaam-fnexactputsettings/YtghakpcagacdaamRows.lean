/-
  No cell of these rows narrows 'for every input' (looked for: loops, veiled, ifaces, maps, wideKeys, modest, calm, conditions, laid).
  DERIVED. THE GIVEN ROWS OF THIS SEAT. 6 by the template 'for every input the law returns true; each argument reads behind the call as it read before'; 0 by the template 'total and deterministic' (their statements: YtghakpcagacdaamTotals.lean).
  GIVEN WITH THE SEED: the statements are not yours to turn. If you find one false, say at which input.
  Laid BY PROGRAM, IN A SANDBOX (cutbox-rows.mjs): the forced cells as the released guide's own fill.sh prints them over the translation 96d05cfb25f598d7… (all of the seat's roots in one cut). By AI agents, Wed Nov 11 2026. No macro, syntax, notation, axiom, sorry.
-/
import Derived.Test.YtghakpcagacdaamChecked
import GoSem.Claim
import GoSem.ClaimJoined
import GoSem.ClaimMapViews
import Derived.JoinedTies
import Derived.KernelRfl
namespace Go.Proofs.Ytghakpcagacdaam
/- THE CELL 'sum', in the pinned program and in every row, IS THE sha256 OF THE DUMP (.gsa) THAT YtghakpcagacdaamProg.lean LOADS. Nothing in Lean hashes anything: it is a label: what it is worth is what the hold of that sum in a sandbox is worth. -/
noncomputable def Try.pinned : Pinned := { name := "ytghakpcagacdaam", sum := "96d05cfb25f598d76d5bf39ffe43beb890f6fc98c18dbefb372e9b454792a535", checked := Try.checked }
namespace Rows
def none {H : Type} : Left H := { results := [], args := [] }

/-- 'laws.FnExactFrameCode': WHATEVER THE INPUT: true; the input reads as it did. -/
def fnExactFrameCodeSpec : ChangeSpec := { name := "fnExactFrameCode", fn := fun _ => fun
  | [d] => { results := [.lit (.bool true)], args := [d] }
  | _ => none }
def fnExactFrameCodeRow : OpenClaim := { program := "ytghakpcagacdaam", sum := "96d05cfb25f598d76d5bf39ffe43beb890f6fc98c18dbefb372e9b454792a535", func := "loop.example/g00199/laws.FnExactFrameCode", spec := "fnExactFrameCode", apart := false }
def FnExactFrameCodeSaid : Prop := fnExactFrameCodeRow.holds Try.pinned (OpenSpec.ofChange fnExactFrameCodeSpec)

/-- ITS FALSE NEIGHBOUR: 'it returns false'. Refute it at one input. -/
def fnExactFrameCodeWrong : ChangeSpec := { name := "fnExactFrameCode", fn := fun _ => fun
  | [d] => { results := [.lit (.bool false)], args := [d] }
  | _ => none }
def FnExactFrameCodeWrongFalsely : Prop := fnExactFrameCodeRow.holds Try.pinned (OpenSpec.ofChange fnExactFrameCodeWrong)

/-- 'laws.FnExactPutFrame': WHATEVER THE INPUT: true; the input reads as it did. -/
def fnExactPutFrameSpec : ChangeSpec := { name := "fnExactPutFrame", fn := fun _ => fun
  | [d] => { results := [.lit (.bool true)], args := [d] }
  | _ => none }
def fnExactPutFrameRow : OpenClaim := { program := "ytghakpcagacdaam", sum := "96d05cfb25f598d76d5bf39ffe43beb890f6fc98c18dbefb372e9b454792a535", func := "loop.example/g00199/laws.FnExactPutFrame", spec := "fnExactPutFrame", apart := false }
def FnExactPutFrameSaid : Prop := fnExactPutFrameRow.holds Try.pinned (OpenSpec.ofChange fnExactPutFrameSpec)

/-- ITS FALSE NEIGHBOUR: 'it returns false'. Refute it at one input. -/
def fnExactPutFrameWrong : ChangeSpec := { name := "fnExactPutFrame", fn := fun _ => fun
  | [d] => { results := [.lit (.bool false)], args := [d] }
  | _ => none }
def FnExactPutFrameWrongFalsely : Prop := fnExactPutFrameRow.holds Try.pinned (OpenSpec.ofChange fnExactPutFrameWrong)

/-- 'laws.FnExactGetFrame': WHATEVER THE INPUT: true; the input reads as it did. -/
def fnExactGetFrameSpec : ChangeSpec := { name := "fnExactGetFrame", fn := fun _ => fun
  | [d1, d2] => { results := [.lit (.bool true)], args := [d1, d2] }
  | _ => none }
def fnExactGetFrameRow : OpenClaim := { program := "ytghakpcagacdaam", sum := "96d05cfb25f598d76d5bf39ffe43beb890f6fc98c18dbefb372e9b454792a535", func := "loop.example/g00199/laws.FnExactGetFrame", spec := "fnExactGetFrame", apart := false }
def FnExactGetFrameSaid : Prop := fnExactGetFrameRow.holds Try.pinned (OpenSpec.ofChange fnExactGetFrameSpec)

/-- ITS FALSE NEIGHBOUR: 'it returns false'. Refute it at one input. -/
def fnExactGetFrameWrong : ChangeSpec := { name := "fnExactGetFrame", fn := fun _ => fun
  | [d1, d2] => { results := [.lit (.bool false)], args := [d1, d2] }
  | _ => none }
def FnExactGetFrameWrongFalsely : Prop := fnExactGetFrameRow.holds Try.pinned (OpenSpec.ofChange fnExactGetFrameWrong)

/-- 'laws.FnExactReadFrames': WHATEVER THE INPUT: true; the input reads as it did. -/
def fnExactReadFramesSpec : ChangeSpec := { name := "fnExactReadFrames", fn := fun _ => fun
  | [d] => { results := [.lit (.bool true)], args := [d] }
  | _ => none }
def fnExactReadFramesRow : OpenClaim := { program := "ytghakpcagacdaam", sum := "96d05cfb25f598d76d5bf39ffe43beb890f6fc98c18dbefb372e9b454792a535", func := "loop.example/g00199/laws.FnExactReadFrames", spec := "fnExactReadFrames", apart := false }
def FnExactReadFramesSaid : Prop := fnExactReadFramesRow.holds Try.pinned (OpenSpec.ofChange fnExactReadFramesSpec)

/-- ITS FALSE NEIGHBOUR: 'it returns false'. Refute it at one input. -/
def fnExactReadFramesWrong : ChangeSpec := { name := "fnExactReadFrames", fn := fun _ => fun
  | [d] => { results := [.lit (.bool false)], args := [d] }
  | _ => none }
def FnExactReadFramesWrongFalsely : Prop := fnExactReadFramesRow.holds Try.pinned (OpenSpec.ofChange fnExactReadFramesWrong)

/-- 'laws.FnExactPutSettings': WHATEVER THE INPUT: true; the input reads as it did. -/
def fnExactPutSettingsSpec : ChangeSpec := { name := "fnExactPutSettings", fn := fun _ => fun
  | [d] => { results := [.lit (.bool true)], args := [d] }
  | _ => none }
def fnExactPutSettingsRow : OpenClaim := { program := "ytghakpcagacdaam", sum := "96d05cfb25f598d76d5bf39ffe43beb890f6fc98c18dbefb372e9b454792a535", func := "loop.example/g00199/laws.FnExactPutSettings", spec := "fnExactPutSettings", apart := false }
def FnExactPutSettingsSaid : Prop := fnExactPutSettingsRow.holds Try.pinned (OpenSpec.ofChange fnExactPutSettingsSpec)

/-- ITS FALSE NEIGHBOUR: 'it returns false'. Refute it at one input. -/
def fnExactPutSettingsWrong : ChangeSpec := { name := "fnExactPutSettings", fn := fun _ => fun
  | [d] => { results := [.lit (.bool false)], args := [d] }
  | _ => none }
def FnExactPutSettingsWrongFalsely : Prop := fnExactPutSettingsRow.holds Try.pinned (OpenSpec.ofChange fnExactPutSettingsWrong)

/-- 'laws.FnExactGetSettings': WHATEVER THE INPUT: true; the input reads as it did. -/
def fnExactGetSettingsSpec : ChangeSpec := { name := "fnExactGetSettings", fn := fun _ => fun
  | [d] => { results := [.lit (.bool true)], args := [d] }
  | _ => none }
def fnExactGetSettingsRow : OpenClaim := { program := "ytghakpcagacdaam", sum := "96d05cfb25f598d76d5bf39ffe43beb890f6fc98c18dbefb372e9b454792a535", func := "loop.example/g00199/laws.FnExactGetSettings", spec := "fnExactGetSettings", apart := false }
def FnExactGetSettingsSaid : Prop := fnExactGetSettingsRow.holds Try.pinned (OpenSpec.ofChange fnExactGetSettingsSpec)

/-- ITS FALSE NEIGHBOUR: 'it returns false'. Refute it at one input. -/
def fnExactGetSettingsWrong : ChangeSpec := { name := "fnExactGetSettings", fn := fun _ => fun
  | [d] => { results := [.lit (.bool false)], args := [d] }
  | _ => none }
def FnExactGetSettingsWrongFalsely : Prop := fnExactGetSettingsRow.holds Try.pinned (OpenSpec.ofChange fnExactGetSettingsWrong)

/- THE SECOND FORM. 'bulk': how many values and letters a reading holds, each counted each time it is reached (what is shared counts as often as it is met; a slice's spare places count too). A statement '..UptoSaid' is the law's where the arguments, and the package variables that the reading takes, are together of bulk at most 1048576: NARROWER than '..Said'. Prove '..Said' where nothing that the law and all that it calls make is longer than what came in: it says more and counts as full. Else prove '..UptoSaid'. A law counts once. -/
mutual
def uptoBulk {H : Type} : DataW H → Nat
  | .lit (.string bytes) => bytes.length + 1
  | .lit _ => 1
  | .nil => 1
  | .ptr d => uptoBulk d + 1
  | .slice elems spare => uptoBulkAll elems + uptoBulkAll spare + 1
  | .agg parts => uptoBulkAll parts + 1
  | .iface _ d => uptoBulk d + 1
  | .map entries => uptoBulkEntries entries + 1
  | .held _ => 1
def uptoBulkAll {H : Type} : List (DataW H) → Nat
  | [] => 0
  | d :: r => uptoBulk d + uptoBulkAll r
def uptoBulkEntries {H : Type} : List (Lit × DataW H) → Nat
  | [] => 0
  | x :: r => uptoBulkEntry x + uptoBulkEntries r
def uptoBulkEntry {H : Type} : Lit × DataW H → Nat
  | (.string bytes, d) => bytes.length + uptoBulk d + 1
  | (_, d) => uptoBulk d + 1
 end
def uptoSmall : (H : Type) → List (DataW H) → Bool := fun _ ds => decide (uptoBulkAll ds ≤ 1048576)
def OpenSpec.upto (s : _root_.Go.ChangeSpec) : _root_.Go.OpenSpec := { _root_.Go.OpenSpec.ofChange s with cond := some uptoSmall }

/-- 'laws.FnExactFrameCode', WHERE WHAT IT READS IS OF BULK AT MOST 1048576: true; the input reads as it did. -/
def fnExactFrameCodeUptoRow : OpenClaim := { program := "ytghakpcagacdaam", sum := "96d05cfb25f598d76d5bf39ffe43beb890f6fc98c18dbefb372e9b454792a535", func := "loop.example/g00199/laws.FnExactFrameCode", spec := "fnExactFrameCode", apart := false, narrowed := true }
def FnExactFrameCodeUptoSaid : Prop := fnExactFrameCodeUptoRow.holds Try.pinned (OpenSpec.upto fnExactFrameCodeSpec)

/-- 'laws.FnExactPutFrame', WHERE WHAT IT READS IS OF BULK AT MOST 1048576: true; the input reads as it did. -/
def fnExactPutFrameUptoRow : OpenClaim := { program := "ytghakpcagacdaam", sum := "96d05cfb25f598d76d5bf39ffe43beb890f6fc98c18dbefb372e9b454792a535", func := "loop.example/g00199/laws.FnExactPutFrame", spec := "fnExactPutFrame", apart := false, narrowed := true }
def FnExactPutFrameUptoSaid : Prop := fnExactPutFrameUptoRow.holds Try.pinned (OpenSpec.upto fnExactPutFrameSpec)

/-- 'laws.FnExactGetFrame', WHERE WHAT IT READS IS OF BULK AT MOST 1048576: true; the input reads as it did. -/
def fnExactGetFrameUptoRow : OpenClaim := { program := "ytghakpcagacdaam", sum := "96d05cfb25f598d76d5bf39ffe43beb890f6fc98c18dbefb372e9b454792a535", func := "loop.example/g00199/laws.FnExactGetFrame", spec := "fnExactGetFrame", apart := false, narrowed := true }
def FnExactGetFrameUptoSaid : Prop := fnExactGetFrameUptoRow.holds Try.pinned (OpenSpec.upto fnExactGetFrameSpec)

/-- 'laws.FnExactReadFrames', WHERE WHAT IT READS IS OF BULK AT MOST 1048576: true; the input reads as it did. -/
def fnExactReadFramesUptoRow : OpenClaim := { program := "ytghakpcagacdaam", sum := "96d05cfb25f598d76d5bf39ffe43beb890f6fc98c18dbefb372e9b454792a535", func := "loop.example/g00199/laws.FnExactReadFrames", spec := "fnExactReadFrames", apart := false, narrowed := true }
def FnExactReadFramesUptoSaid : Prop := fnExactReadFramesUptoRow.holds Try.pinned (OpenSpec.upto fnExactReadFramesSpec)

/-- 'laws.FnExactPutSettings', WHERE WHAT IT READS IS OF BULK AT MOST 1048576: true; the input reads as it did. -/
def fnExactPutSettingsUptoRow : OpenClaim := { program := "ytghakpcagacdaam", sum := "96d05cfb25f598d76d5bf39ffe43beb890f6fc98c18dbefb372e9b454792a535", func := "loop.example/g00199/laws.FnExactPutSettings", spec := "fnExactPutSettings", apart := false, narrowed := true }
def FnExactPutSettingsUptoSaid : Prop := fnExactPutSettingsUptoRow.holds Try.pinned (OpenSpec.upto fnExactPutSettingsSpec)

/-- 'laws.FnExactGetSettings', WHERE WHAT IT READS IS OF BULK AT MOST 1048576: true; the input reads as it did. -/
def fnExactGetSettingsUptoRow : OpenClaim := { program := "ytghakpcagacdaam", sum := "96d05cfb25f598d76d5bf39ffe43beb890f6fc98c18dbefb372e9b454792a535", func := "loop.example/g00199/laws.FnExactGetSettings", spec := "fnExactGetSettings", apart := false, narrowed := true }
def FnExactGetSettingsUptoSaid : Prop := fnExactGetSettingsUptoRow.holds Try.pinned (OpenSpec.upto fnExactGetSettingsSpec)

end Rows
end Go.Proofs.Ytghakpcagacdaam
