/-
  No cell of these rows narrows 'for every input' (looked for: loops, veiled, ifaces, maps, wideKeys, modest, calm, conditions, laid).
  DERIVED. THE GIVEN ROWS OF THIS SEAT. 6 by the template 'for every input the law returns true; each argument reads behind the call as it read before'; 0 by the template 'total and deterministic' (their statements: YtkicfiacnpifkapTotals.lean).
  GIVEN WITH THE SEED: the statements are not yours to turn. If you find one false, say at which input.
  Laid BY PROGRAM, IN A SANDBOX (cutbox-rows.mjs): the forced cells as the released guide's own fill.sh prints them over the translation 11b73a7f27efaaad… (all of the seat's roots in one cut). By AI agents, Wed Nov 11 2026. No macro, syntax, notation, axiom, sorry.
-/
import Derived.Test.YtkicfiacnpifkapChecked
import GoSem.Claim
import GoSem.ClaimJoined
import GoSem.ClaimMapViews
import Derived.JoinedTies
import Derived.KernelRfl
namespace Go.Proofs.Ytkicfiacnpifkap
/- THE CELL 'sum', in the pinned program and in every row, IS THE sha256 OF THE DUMP (.gsa) THAT YtkicfiacnpifkapProg.lean LOADS. Nothing in Lean hashes anything: it is a label: what it is worth is what the hold of that sum in a sandbox is worth. -/
noncomputable def Try.pinned : Pinned := { name := "ytkicfiacnpifkap", sum := "11b73a7f27efaaad760f605ec5cd5c63d2611753a76c3b24019054ad38ebfacc", checked := Try.checked }
namespace Rows
def none {H : Type} : Left H := { results := [], args := [] }

/-- 'laws.FnExactFlowOk': WHATEVER THE INPUT: true; the input reads as it did. -/
def fnExactFlowOkSpec : ChangeSpec := { name := "fnExactFlowOk", fn := fun _ => fun
  | [d] => { results := [.lit (.bool true)], args := [d] }
  | _ => none }
def fnExactFlowOkRow : OpenClaim := { program := "ytkicfiacnpifkap", sum := "11b73a7f27efaaad760f605ec5cd5c63d2611753a76c3b24019054ad38ebfacc", func := "loop.example/g00199/laws.FnExactFlowOk", spec := "fnExactFlowOk", unfollowed := true, recurses := true, apart := false }
def FnExactFlowOkSaid : Prop := fnExactFlowOkRow.holds Try.pinned (OpenSpec.ofChange fnExactFlowOkSpec)

/-- ITS FALSE NEIGHBOUR: 'it returns false'. Refute it at one input. -/
def fnExactFlowOkWrong : ChangeSpec := { name := "fnExactFlowOk", fn := fun _ => fun
  | [d] => { results := [.lit (.bool false)], args := [d] }
  | _ => none }
def FnExactFlowOkWrongFalsely : Prop := fnExactFlowOkRow.holds Try.pinned (OpenSpec.ofChange fnExactFlowOkWrong)

/-- 'laws.FnExactFlowNew': WHATEVER THE INPUT: true; the input reads as it did. -/
def fnExactFlowNewSpec : ChangeSpec := { name := "fnExactFlowNew", fn := fun _ => fun
  | [d] => { results := [.lit (.bool true)], args := [d] }
  | _ => none }
def fnExactFlowNewRow : OpenClaim := { program := "ytkicfiacnpifkap", sum := "11b73a7f27efaaad760f605ec5cd5c63d2611753a76c3b24019054ad38ebfacc", func := "loop.example/g00199/laws.FnExactFlowNew", spec := "fnExactFlowNew", apart := false }
def FnExactFlowNewSaid : Prop := fnExactFlowNewRow.holds Try.pinned (OpenSpec.ofChange fnExactFlowNewSpec)

/-- ITS FALSE NEIGHBOUR: 'it returns false'. Refute it at one input. -/
def fnExactFlowNewWrong : ChangeSpec := { name := "fnExactFlowNew", fn := fun _ => fun
  | [d] => { results := [.lit (.bool false)], args := [d] }
  | _ => none }
def FnExactFlowNewWrongFalsely : Prop := fnExactFlowNewRow.holds Try.pinned (OpenSpec.ofChange fnExactFlowNewWrong)

/-- 'laws.FnExactOpenLane': WHATEVER THE INPUT: true; the input reads as it did. -/
def fnExactOpenLaneSpec : ChangeSpec := { name := "fnExactOpenLane", fn := fun _ => fun
  | [d1, d2] => { results := [.lit (.bool true)], args := [d1, d2] }
  | _ => none }
def fnExactOpenLaneRow : OpenClaim := { program := "ytkicfiacnpifkap", sum := "11b73a7f27efaaad760f605ec5cd5c63d2611753a76c3b24019054ad38ebfacc", func := "loop.example/g00199/laws.FnExactOpenLane", spec := "fnExactOpenLane", inPlace := ["slices.overlaps[loop.example/g00199/impl.Lane]"], unfollowed := true, recurses := true, apart := false }
def FnExactOpenLaneSaid : Prop := fnExactOpenLaneRow.holds Try.pinned (OpenSpec.ofChange fnExactOpenLaneSpec)

/-- ITS FALSE NEIGHBOUR: 'it returns false'. Refute it at one input. -/
def fnExactOpenLaneWrong : ChangeSpec := { name := "fnExactOpenLane", fn := fun _ => fun
  | [d1, d2] => { results := [.lit (.bool false)], args := [d1, d2] }
  | _ => none }
def FnExactOpenLaneWrongFalsely : Prop := fnExactOpenLaneRow.holds Try.pinned (OpenSpec.ofChange fnExactOpenLaneWrong)

/-- 'laws.FnExactCloseLane': WHATEVER THE INPUT: true; the input reads as it did. -/
def fnExactCloseLaneSpec : ChangeSpec := { name := "fnExactCloseLane", fn := fun _ => fun
  | [d1, d2] => { results := [.lit (.bool true)], args := [d1, d2] }
  | _ => none }
def fnExactCloseLaneRow : OpenClaim := { program := "ytkicfiacnpifkap", sum := "11b73a7f27efaaad760f605ec5cd5c63d2611753a76c3b24019054ad38ebfacc", func := "loop.example/g00199/laws.FnExactCloseLane", spec := "fnExactCloseLane", unfollowed := true, recurses := true, apart := false }
def FnExactCloseLaneSaid : Prop := fnExactCloseLaneRow.holds Try.pinned (OpenSpec.ofChange fnExactCloseLaneSpec)

/-- ITS FALSE NEIGHBOUR: 'it returns false'. Refute it at one input. -/
def fnExactCloseLaneWrong : ChangeSpec := { name := "fnExactCloseLane", fn := fun _ => fun
  | [d1, d2] => { results := [.lit (.bool false)], args := [d1, d2] }
  | _ => none }
def FnExactCloseLaneWrongFalsely : Prop := fnExactCloseLaneRow.holds Try.pinned (OpenSpec.ofChange fnExactCloseLaneWrong)

/-- 'laws.FnExactRoomOf': WHATEVER THE INPUT: true; the input reads as it did. -/
def fnExactRoomOfSpec : ChangeSpec := { name := "fnExactRoomOf", fn := fun _ => fun
  | [d1, d2] => { results := [.lit (.bool true)], args := [d1, d2] }
  | _ => none }
def fnExactRoomOfRow : OpenClaim := { program := "ytkicfiacnpifkap", sum := "11b73a7f27efaaad760f605ec5cd5c63d2611753a76c3b24019054ad38ebfacc", func := "loop.example/g00199/laws.FnExactRoomOf", spec := "fnExactRoomOf", unfollowed := true, recurses := true, apart := false }
def FnExactRoomOfSaid : Prop := fnExactRoomOfRow.holds Try.pinned (OpenSpec.ofChange fnExactRoomOfSpec)

/-- ITS FALSE NEIGHBOUR: 'it returns false'. Refute it at one input. -/
def fnExactRoomOfWrong : ChangeSpec := { name := "fnExactRoomOf", fn := fun _ => fun
  | [d1, d2] => { results := [.lit (.bool false)], args := [d1, d2] }
  | _ => none }
def FnExactRoomOfWrongFalsely : Prop := fnExactRoomOfRow.holds Try.pinned (OpenSpec.ofChange fnExactRoomOfWrong)

/-- 'laws.FnExactSpend': WHATEVER THE INPUT: true; the input reads as it did. -/
def fnExactSpendSpec : ChangeSpec := { name := "fnExactSpend", fn := fun _ => fun
  | [d1, d2, d3] => { results := [.lit (.bool true)], args := [d1, d2, d3] }
  | _ => none }
def fnExactSpendRow : OpenClaim := { program := "ytkicfiacnpifkap", sum := "11b73a7f27efaaad760f605ec5cd5c63d2611753a76c3b24019054ad38ebfacc", func := "loop.example/g00199/laws.FnExactSpend", spec := "fnExactSpend", unfollowed := true, recurses := true, apart := false }
def FnExactSpendSaid : Prop := fnExactSpendRow.holds Try.pinned (OpenSpec.ofChange fnExactSpendSpec)

/-- ITS FALSE NEIGHBOUR: 'it returns false'. Refute it at one input. -/
def fnExactSpendWrong : ChangeSpec := { name := "fnExactSpend", fn := fun _ => fun
  | [d1, d2, d3] => { results := [.lit (.bool false)], args := [d1, d2, d3] }
  | _ => none }
def FnExactSpendWrongFalsely : Prop := fnExactSpendRow.holds Try.pinned (OpenSpec.ofChange fnExactSpendWrong)

/- THE SECOND FORM. 'bulk': how many values and letters a reading holds, each counted each time it is reached (what is shared counts as often as it is met; a slice's spare places count too). A statement '..UptoSaid' is the law's where the arguments, and the package variables that the reading takes, are together of bulk at most 1048576: NARROWER than '..Said'. Prove '..Said' where nothing that the law and all that it calls make is longer than what came in: it says more and counts as full. Else prove '..UptoSaid'. A law counts once. -/
mutual
def uptoBulk {H : Type} : DataW H → Nat
  | .lit (.string bytes) => bytes.length + 1
  | .lit _ => 1
  | .nil => 1
  | .ptr d => uptoBulk d + 1
  | .slice elems spare => uptoBulkAll elems + uptoBulkAll spare + 1
  | .agg parts => uptoBulkAll parts + 1
  | .iface _ d => uptoBulk d + 1
  | .map entries => uptoBulkEntries entries + 1
  | .held _ => 1
def uptoBulkAll {H : Type} : List (DataW H) → Nat
  | [] => 0
  | d :: r => uptoBulk d + uptoBulkAll r
def uptoBulkEntries {H : Type} : List (Lit × DataW H) → Nat
  | [] => 0
  | x :: r => uptoBulkEntry x + uptoBulkEntries r
def uptoBulkEntry {H : Type} : Lit × DataW H → Nat
  | (.string bytes, d) => bytes.length + uptoBulk d + 1
  | (_, d) => uptoBulk d + 1
 end
def uptoSmall : (H : Type) → List (DataW H) → Bool := fun _ ds => decide (uptoBulkAll ds ≤ 1048576)
def OpenSpec.upto (s : _root_.Go.ChangeSpec) : _root_.Go.OpenSpec := { _root_.Go.OpenSpec.ofChange s with cond := some uptoSmall }

/-- 'laws.FnExactFlowOk', WHERE WHAT IT READS IS OF BULK AT MOST 1048576: true; the input reads as it did. -/
def fnExactFlowOkUptoRow : OpenClaim := { program := "ytkicfiacnpifkap", sum := "11b73a7f27efaaad760f605ec5cd5c63d2611753a76c3b24019054ad38ebfacc", func := "loop.example/g00199/laws.FnExactFlowOk", spec := "fnExactFlowOk", unfollowed := true, recurses := true, apart := false, narrowed := true }
def FnExactFlowOkUptoSaid : Prop := fnExactFlowOkUptoRow.holds Try.pinned (OpenSpec.upto fnExactFlowOkSpec)

/-- 'laws.FnExactFlowNew', WHERE WHAT IT READS IS OF BULK AT MOST 1048576: true; the input reads as it did. -/
def fnExactFlowNewUptoRow : OpenClaim := { program := "ytkicfiacnpifkap", sum := "11b73a7f27efaaad760f605ec5cd5c63d2611753a76c3b24019054ad38ebfacc", func := "loop.example/g00199/laws.FnExactFlowNew", spec := "fnExactFlowNew", apart := false, narrowed := true }
def FnExactFlowNewUptoSaid : Prop := fnExactFlowNewUptoRow.holds Try.pinned (OpenSpec.upto fnExactFlowNewSpec)

/-- 'laws.FnExactOpenLane', WHERE WHAT IT READS IS OF BULK AT MOST 1048576: true; the input reads as it did. -/
def fnExactOpenLaneUptoRow : OpenClaim := { program := "ytkicfiacnpifkap", sum := "11b73a7f27efaaad760f605ec5cd5c63d2611753a76c3b24019054ad38ebfacc", func := "loop.example/g00199/laws.FnExactOpenLane", spec := "fnExactOpenLane", inPlace := ["slices.overlaps[loop.example/g00199/impl.Lane]"], unfollowed := true, recurses := true, apart := false, narrowed := true }
def FnExactOpenLaneUptoSaid : Prop := fnExactOpenLaneUptoRow.holds Try.pinned (OpenSpec.upto fnExactOpenLaneSpec)

/-- 'laws.FnExactCloseLane', WHERE WHAT IT READS IS OF BULK AT MOST 1048576: true; the input reads as it did. -/
def fnExactCloseLaneUptoRow : OpenClaim := { program := "ytkicfiacnpifkap", sum := "11b73a7f27efaaad760f605ec5cd5c63d2611753a76c3b24019054ad38ebfacc", func := "loop.example/g00199/laws.FnExactCloseLane", spec := "fnExactCloseLane", unfollowed := true, recurses := true, apart := false, narrowed := true }
def FnExactCloseLaneUptoSaid : Prop := fnExactCloseLaneUptoRow.holds Try.pinned (OpenSpec.upto fnExactCloseLaneSpec)

/-- 'laws.FnExactRoomOf', WHERE WHAT IT READS IS OF BULK AT MOST 1048576: true; the input reads as it did. -/
def fnExactRoomOfUptoRow : OpenClaim := { program := "ytkicfiacnpifkap", sum := "11b73a7f27efaaad760f605ec5cd5c63d2611753a76c3b24019054ad38ebfacc", func := "loop.example/g00199/laws.FnExactRoomOf", spec := "fnExactRoomOf", unfollowed := true, recurses := true, apart := false, narrowed := true }
def FnExactRoomOfUptoSaid : Prop := fnExactRoomOfUptoRow.holds Try.pinned (OpenSpec.upto fnExactRoomOfSpec)

/-- 'laws.FnExactSpend', WHERE WHAT IT READS IS OF BULK AT MOST 1048576: true; the input reads as it did. -/
def fnExactSpendUptoRow : OpenClaim := { program := "ytkicfiacnpifkap", sum := "11b73a7f27efaaad760f605ec5cd5c63d2611753a76c3b24019054ad38ebfacc", func := "loop.example/g00199/laws.FnExactSpend", spec := "fnExactSpend", unfollowed := true, recurses := true, apart := false, narrowed := true }
def FnExactSpendUptoSaid : Prop := fnExactSpendUptoRow.holds Try.pinned (OpenSpec.upto fnExactSpendSpec)

end Rows
end Go.Proofs.Ytkicfiacnpifkap
