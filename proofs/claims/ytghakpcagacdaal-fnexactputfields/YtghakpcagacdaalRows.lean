/-
  No cell of these rows narrows 'for every input' (looked for: loops, veiled, ifaces, maps, wideKeys, modest, calm, conditions, laid).
  DERIVED. THE GIVEN ROWS OF THIS SEAT. 6 by the template 'for every input the law returns true; each argument reads behind the call as it read before'; 0 by the template 'total and deterministic' (their statements: YtghakpcagacdaalTotals.lean).
  GIVEN WITH THE SEED: the statements are not yours to turn. If you find one false, say at which input.
  Laid BY PROGRAM, IN A SANDBOX (cutbox-rows.mjs): the forced cells as the released guide's own fill.sh prints them over the translation 394e801e95ca06ce… (all of the seat's roots in one cut). By AI agents, Wed Nov 11 2026. No macro, syntax, notation, axiom, sorry.
-/
import Derived.Test.YtghakpcagacdaalChecked
import GoSem.Claim
import GoSem.ClaimJoined
import GoSem.ClaimMapViews
import Derived.JoinedTies
import Derived.KernelRfl
namespace Go.Proofs.Ytghakpcagacdaal
/- THE CELL 'sum', in the pinned program and in every row, IS THE sha256 OF THE DUMP (.gsa) THAT YtghakpcagacdaalProg.lean LOADS. Nothing in Lean hashes anything: it is a label: what it is worth is what the hold of that sum in a sandbox is worth. -/
noncomputable def Try.pinned : Pinned := { name := "ytghakpcagacdaal", sum := "394e801e95ca06ce113caf981bb4d362e644731a9fd1cdc2e0a886fa05c37e6b", checked := Try.checked }
namespace Rows
def none {H : Type} : Left H := { results := [], args := [] }

/-- 'laws.FnExactPutString': WHATEVER THE INPUT: true; the input reads as it did. -/
def fnExactPutStringSpec : ChangeSpec := { name := "fnExactPutString", fn := fun _ => fun
  | [d1, d2] => { results := [.lit (.bool true)], args := [d1, d2] }
  | _ => none }
def fnExactPutStringRow : OpenClaim := { program := "ytghakpcagacdaal", sum := "394e801e95ca06ce113caf981bb4d362e644731a9fd1cdc2e0a886fa05c37e6b", func := "loop.example/g00199/laws.FnExactPutString", spec := "fnExactPutString", unfollowed := true, recurses := true, plainKeys := false, apart := false }
def FnExactPutStringSaid : Prop := fnExactPutStringRow.holds Try.pinned (OpenSpec.ofChange fnExactPutStringSpec)

/-- ITS FALSE NEIGHBOUR: 'it returns false'. Refute it at one input. -/
def fnExactPutStringWrong : ChangeSpec := { name := "fnExactPutString", fn := fun _ => fun
  | [d1, d2] => { results := [.lit (.bool false)], args := [d1, d2] }
  | _ => none }
def FnExactPutStringWrongFalsely : Prop := fnExactPutStringRow.holds Try.pinned (OpenSpec.ofChange fnExactPutStringWrong)

/-- 'laws.FnExactGetString': WHATEVER THE INPUT: true; the input reads as it did. -/
def fnExactGetStringSpec : ChangeSpec := { name := "fnExactGetString", fn := fun _ => fun
  | [d1, d2] => { results := [.lit (.bool true)], args := [d1, d2] }
  | _ => none }
def fnExactGetStringRow : OpenClaim := { program := "ytghakpcagacdaal", sum := "394e801e95ca06ce113caf981bb4d362e644731a9fd1cdc2e0a886fa05c37e6b", func := "loop.example/g00199/laws.FnExactGetString", spec := "fnExactGetString", unfollowed := true, recurses := true, plainKeys := false, apart := false }
def FnExactGetStringSaid : Prop := fnExactGetStringRow.holds Try.pinned (OpenSpec.ofChange fnExactGetStringSpec)

/-- ITS FALSE NEIGHBOUR: 'it returns false'. Refute it at one input. -/
def fnExactGetStringWrong : ChangeSpec := { name := "fnExactGetString", fn := fun _ => fun
  | [d1, d2] => { results := [.lit (.bool false)], args := [d1, d2] }
  | _ => none }
def FnExactGetStringWrongFalsely : Prop := fnExactGetStringRow.holds Try.pinned (OpenSpec.ofChange fnExactGetStringWrong)

/-- 'laws.FnExactPutField': WHATEVER THE INPUT: true; the input reads as it did. -/
def fnExactPutFieldSpec : ChangeSpec := { name := "fnExactPutField", fn := fun _ => fun
  | [d1, d2, d3] => { results := [.lit (.bool true)], args := [d1, d2, d3] }
  | _ => none }
def fnExactPutFieldRow : OpenClaim := { program := "ytghakpcagacdaal", sum := "394e801e95ca06ce113caf981bb4d362e644731a9fd1cdc2e0a886fa05c37e6b", func := "loop.example/g00199/laws.FnExactPutField", spec := "fnExactPutField", unfollowed := true, recurses := true, plainKeys := false, apart := false }
def FnExactPutFieldSaid : Prop := fnExactPutFieldRow.holds Try.pinned (OpenSpec.ofChange fnExactPutFieldSpec)

/-- ITS FALSE NEIGHBOUR: 'it returns false'. Refute it at one input. -/
def fnExactPutFieldWrong : ChangeSpec := { name := "fnExactPutField", fn := fun _ => fun
  | [d1, d2, d3] => { results := [.lit (.bool false)], args := [d1, d2, d3] }
  | _ => none }
def FnExactPutFieldWrongFalsely : Prop := fnExactPutFieldRow.holds Try.pinned (OpenSpec.ofChange fnExactPutFieldWrong)

/-- 'laws.FnExactPutFields': WHATEVER THE INPUT: true; the input reads as it did. -/
def fnExactPutFieldsSpec : ChangeSpec := { name := "fnExactPutFields", fn := fun _ => fun
  | [d1, d2] => { results := [.lit (.bool true)], args := [d1, d2] }
  | _ => none }
def fnExactPutFieldsRow : OpenClaim := { program := "ytghakpcagacdaal", sum := "394e801e95ca06ce113caf981bb4d362e644731a9fd1cdc2e0a886fa05c37e6b", func := "loop.example/g00199/laws.FnExactPutFields", spec := "fnExactPutFields", unfollowed := true, recurses := true, plainKeys := false, apart := false }
def FnExactPutFieldsSaid : Prop := fnExactPutFieldsRow.holds Try.pinned (OpenSpec.ofChange fnExactPutFieldsSpec)

/-- ITS FALSE NEIGHBOUR: 'it returns false'. Refute it at one input. -/
def fnExactPutFieldsWrong : ChangeSpec := { name := "fnExactPutFields", fn := fun _ => fun
  | [d1, d2] => { results := [.lit (.bool false)], args := [d1, d2] }
  | _ => none }
def FnExactPutFieldsWrongFalsely : Prop := fnExactPutFieldsRow.holds Try.pinned (OpenSpec.ofChange fnExactPutFieldsWrong)

/-- 'laws.FnExactGetFields': WHATEVER THE INPUT: true; the input reads as it did. -/
def fnExactGetFieldsSpec : ChangeSpec := { name := "fnExactGetFields", fn := fun _ => fun
  | [d1, d2, d3] => { results := [.lit (.bool true)], args := [d1, d2, d3] }
  | _ => none }
def fnExactGetFieldsRow : OpenClaim := { program := "ytghakpcagacdaal", sum := "394e801e95ca06ce113caf981bb4d362e644731a9fd1cdc2e0a886fa05c37e6b", func := "loop.example/g00199/laws.FnExactGetFields", spec := "fnExactGetFields", unfollowed := true, recurses := true, plainKeys := false, apart := false }
def FnExactGetFieldsSaid : Prop := fnExactGetFieldsRow.holds Try.pinned (OpenSpec.ofChange fnExactGetFieldsSpec)

/-- ITS FALSE NEIGHBOUR: 'it returns false'. Refute it at one input. -/
def fnExactGetFieldsWrong : ChangeSpec := { name := "fnExactGetFields", fn := fun _ => fun
  | [d1, d2, d3] => { results := [.lit (.bool false)], args := [d1, d2, d3] }
  | _ => none }
def FnExactGetFieldsWrongFalsely : Prop := fnExactGetFieldsRow.holds Try.pinned (OpenSpec.ofChange fnExactGetFieldsWrong)

/-- 'laws.FnExactFrameOk': WHATEVER THE INPUT: true; the input reads as it did. -/
def fnExactFrameOkSpec : ChangeSpec := { name := "fnExactFrameOk", fn := fun _ => fun
  | [d] => { results := [.lit (.bool true)], args := [d] }
  | _ => none }
def fnExactFrameOkRow : OpenClaim := { program := "ytghakpcagacdaal", sum := "394e801e95ca06ce113caf981bb4d362e644731a9fd1cdc2e0a886fa05c37e6b", func := "loop.example/g00199/laws.FnExactFrameOk", spec := "fnExactFrameOk", plainKeys := false, apart := false }
def FnExactFrameOkSaid : Prop := fnExactFrameOkRow.holds Try.pinned (OpenSpec.ofChange fnExactFrameOkSpec)

/-- ITS FALSE NEIGHBOUR: 'it returns false'. Refute it at one input. -/
def fnExactFrameOkWrong : ChangeSpec := { name := "fnExactFrameOk", fn := fun _ => fun
  | [d] => { results := [.lit (.bool false)], args := [d] }
  | _ => none }
def FnExactFrameOkWrongFalsely : Prop := fnExactFrameOkRow.holds Try.pinned (OpenSpec.ofChange fnExactFrameOkWrong)

/- THE SECOND FORM. 'bulk': how many values and letters a reading holds, each counted each time it is reached (what is shared counts as often as it is met; a slice's spare places count too). A statement '..UptoSaid' is the law's where the arguments, and the package variables that the reading takes, are together of bulk at most 1048576: NARROWER than '..Said'. Prove '..Said' where nothing that the law and all that it calls make is longer than what came in: it says more and counts as full. Else prove '..UptoSaid'. A law counts once. -/
mutual
def uptoBulk {H : Type} : DataW H → Nat
  | .lit (.string bytes) => bytes.length + 1
  | .lit _ => 1
  | .nil => 1
  | .ptr d => uptoBulk d + 1
  | .slice elems spare => uptoBulkAll elems + uptoBulkAll spare + 1
  | .agg parts => uptoBulkAll parts + 1
  | .iface _ d => uptoBulk d + 1
  | .map entries => uptoBulkEntries entries + 1
  | .held _ => 1
def uptoBulkAll {H : Type} : List (DataW H) → Nat
  | [] => 0
  | d :: r => uptoBulk d + uptoBulkAll r
def uptoBulkEntries {H : Type} : List (Lit × DataW H) → Nat
  | [] => 0
  | x :: r => uptoBulkEntry x + uptoBulkEntries r
def uptoBulkEntry {H : Type} : Lit × DataW H → Nat
  | (.string bytes, d) => bytes.length + uptoBulk d + 1
  | (_, d) => uptoBulk d + 1
 end
def uptoSmall : (H : Type) → List (DataW H) → Bool := fun _ ds => decide (uptoBulkAll ds ≤ 1048576)
def OpenSpec.upto (s : _root_.Go.ChangeSpec) : _root_.Go.OpenSpec := { _root_.Go.OpenSpec.ofChange s with cond := some uptoSmall }

/-- 'laws.FnExactPutString', WHERE WHAT IT READS IS OF BULK AT MOST 1048576: true; the input reads as it did. -/
def fnExactPutStringUptoRow : OpenClaim := { program := "ytghakpcagacdaal", sum := "394e801e95ca06ce113caf981bb4d362e644731a9fd1cdc2e0a886fa05c37e6b", func := "loop.example/g00199/laws.FnExactPutString", spec := "fnExactPutString", unfollowed := true, recurses := true, plainKeys := false, apart := false, narrowed := true }
def FnExactPutStringUptoSaid : Prop := fnExactPutStringUptoRow.holds Try.pinned (OpenSpec.upto fnExactPutStringSpec)

/-- 'laws.FnExactGetString', WHERE WHAT IT READS IS OF BULK AT MOST 1048576: true; the input reads as it did. -/
def fnExactGetStringUptoRow : OpenClaim := { program := "ytghakpcagacdaal", sum := "394e801e95ca06ce113caf981bb4d362e644731a9fd1cdc2e0a886fa05c37e6b", func := "loop.example/g00199/laws.FnExactGetString", spec := "fnExactGetString", unfollowed := true, recurses := true, plainKeys := false, apart := false, narrowed := true }
def FnExactGetStringUptoSaid : Prop := fnExactGetStringUptoRow.holds Try.pinned (OpenSpec.upto fnExactGetStringSpec)

/-- 'laws.FnExactPutField', WHERE WHAT IT READS IS OF BULK AT MOST 1048576: true; the input reads as it did. -/
def fnExactPutFieldUptoRow : OpenClaim := { program := "ytghakpcagacdaal", sum := "394e801e95ca06ce113caf981bb4d362e644731a9fd1cdc2e0a886fa05c37e6b", func := "loop.example/g00199/laws.FnExactPutField", spec := "fnExactPutField", unfollowed := true, recurses := true, plainKeys := false, apart := false, narrowed := true }
def FnExactPutFieldUptoSaid : Prop := fnExactPutFieldUptoRow.holds Try.pinned (OpenSpec.upto fnExactPutFieldSpec)

/-- 'laws.FnExactPutFields', WHERE WHAT IT READS IS OF BULK AT MOST 1048576: true; the input reads as it did. -/
def fnExactPutFieldsUptoRow : OpenClaim := { program := "ytghakpcagacdaal", sum := "394e801e95ca06ce113caf981bb4d362e644731a9fd1cdc2e0a886fa05c37e6b", func := "loop.example/g00199/laws.FnExactPutFields", spec := "fnExactPutFields", unfollowed := true, recurses := true, plainKeys := false, apart := false, narrowed := true }
def FnExactPutFieldsUptoSaid : Prop := fnExactPutFieldsUptoRow.holds Try.pinned (OpenSpec.upto fnExactPutFieldsSpec)

/-- 'laws.FnExactGetFields', WHERE WHAT IT READS IS OF BULK AT MOST 1048576: true; the input reads as it did. -/
def fnExactGetFieldsUptoRow : OpenClaim := { program := "ytghakpcagacdaal", sum := "394e801e95ca06ce113caf981bb4d362e644731a9fd1cdc2e0a886fa05c37e6b", func := "loop.example/g00199/laws.FnExactGetFields", spec := "fnExactGetFields", unfollowed := true, recurses := true, plainKeys := false, apart := false, narrowed := true }
def FnExactGetFieldsUptoSaid : Prop := fnExactGetFieldsUptoRow.holds Try.pinned (OpenSpec.upto fnExactGetFieldsSpec)

/-- 'laws.FnExactFrameOk', WHERE WHAT IT READS IS OF BULK AT MOST 1048576: true; the input reads as it did. -/
def fnExactFrameOkUptoRow : OpenClaim := { program := "ytghakpcagacdaal", sum := "394e801e95ca06ce113caf981bb4d362e644731a9fd1cdc2e0a886fa05c37e6b", func := "loop.example/g00199/laws.FnExactFrameOk", spec := "fnExactFrameOk", plainKeys := false, apart := false, narrowed := true }
def FnExactFrameOkUptoSaid : Prop := fnExactFrameOkUptoRow.holds Try.pinned (OpenSpec.upto fnExactFrameOkSpec)

end Rows
end Go.Proofs.Ytghakpcagacdaal
