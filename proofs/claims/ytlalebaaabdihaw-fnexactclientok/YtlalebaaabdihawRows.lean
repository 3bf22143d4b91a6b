/-
  No cell of these rows narrows 'for every input' (looked for: loops, veiled, ifaces, maps, wideKeys, modest, calm, conditions, laid).
  DERIVED. THE GIVEN ROWS OF THIS SEAT. 3 by the template 'for every input the law returns true; each argument reads behind the call as it read before'; 0 by the template 'total and deterministic' (their statements: YtlalebaaabdihawTotals.lean).
  GIVEN WITH THE SEED: the statements are not yours to turn. If you find one false, say at which input.
  Laid BY PROGRAM, IN A SANDBOX (cutbox-rows.mjs): the forced cells as the released guide's own fill.sh prints them over the translation 8eb2e1ea676af64a… (all of the seat's roots in one cut). By AI agents, Wed Nov 11 2026. No macro, syntax, notation, axiom, sorry.
-/
import Derived.Test.YtlalebaaabdihawChecked
import GoSem.Claim
import GoSem.ClaimJoined
import GoSem.ClaimMapViews
import Derived.JoinedTies
import Derived.KernelRfl
namespace Go.Proofs.Ytlalebaaabdihaw
/- THE CELL 'sum', in the pinned program and in every row, IS THE sha256 OF THE DUMP (.gsa) THAT YtlalebaaabdihawProg.lean LOADS. Nothing in Lean hashes anything: it is a label: what it is worth is what the hold of that sum in a sandbox is worth. -/
noncomputable def Try.pinned : Pinned := { name := "ytlalebaaabdihaw", sum := "8eb2e1ea676af64ab1eb483c9a9cf7281ecbbf839a1f9f87a961c81f98a0110d", checked := Try.checked }
namespace Rows
def none {H : Type} : Left H := { results := [], args := [] }

/-- 'laws.FnExactPreface': WHATEVER THE INPUT: true; the input reads as it did. -/
def fnExactPrefaceSpec : ChangeSpec := { name := "fnExactPreface", fn := fun _ => fun
  | [] => { results := [.lit (.bool true)], args := [] }
  | _ => none }
def fnExactPrefaceRow : OpenClaim := { program := "ytlalebaaabdihaw", sum := "8eb2e1ea676af64ab1eb483c9a9cf7281ecbbf839a1f9f87a961c81f98a0110d", func := "loop.example/g00199/laws.FnExactPreface", spec := "fnExactPreface", apart := false }
def FnExactPrefaceSaid : Prop := fnExactPrefaceRow.holds Try.pinned (OpenSpec.ofChange fnExactPrefaceSpec)

/-- ITS FALSE NEIGHBOUR: 'it returns false'. Refute it at one input. -/
def fnExactPrefaceWrong : ChangeSpec := { name := "fnExactPreface", fn := fun _ => fun
  | [] => { results := [.lit (.bool false)], args := [] }
  | _ => none }
def FnExactPrefaceWrongFalsely : Prop := fnExactPrefaceRow.holds Try.pinned (OpenSpec.ofChange fnExactPrefaceWrong)

/-- 'laws.FnExactClientNew': WHATEVER THE INPUT: true; the input reads as it did. -/
def fnExactClientNewSpec : ChangeSpec := { name := "fnExactClientNew", fn := fun _ => fun
  | [d1, d2] => { results := [.lit (.bool true)], args := [d1, d2] }
  | _ => none }
def fnExactClientNewRow : OpenClaim := { program := "ytlalebaaabdihaw", sum := "8eb2e1ea676af64ab1eb483c9a9cf7281ecbbf839a1f9f87a961c81f98a0110d", func := "loop.example/g00199/laws.FnExactClientNew", spec := "fnExactClientNew", apart := false }
def FnExactClientNewSaid : Prop := fnExactClientNewRow.holds Try.pinned (OpenSpec.ofChange fnExactClientNewSpec)

/-- ITS FALSE NEIGHBOUR: 'it returns false'. Refute it at one input. -/
def fnExactClientNewWrong : ChangeSpec := { name := "fnExactClientNew", fn := fun _ => fun
  | [d1, d2] => { results := [.lit (.bool false)], args := [d1, d2] }
  | _ => none }
def FnExactClientNewWrongFalsely : Prop := fnExactClientNewRow.holds Try.pinned (OpenSpec.ofChange fnExactClientNewWrong)

/-- 'laws.FnExactClientOk': WHATEVER THE INPUT: true; the input reads as it did. -/
def fnExactClientOkSpec : ChangeSpec := { name := "fnExactClientOk", fn := fun _ => fun
  | [d] => { results := [.lit (.bool true)], args := [d] }
  | _ => none }
def fnExactClientOkRow : OpenClaim := { program := "ytlalebaaabdihaw", sum := "8eb2e1ea676af64ab1eb483c9a9cf7281ecbbf839a1f9f87a961c81f98a0110d", func := "loop.example/g00199/laws.FnExactClientOk", spec := "fnExactClientOk", apart := false }
def FnExactClientOkSaid : Prop := fnExactClientOkRow.holds Try.pinned (OpenSpec.ofChange fnExactClientOkSpec)

/-- ITS FALSE NEIGHBOUR: 'it returns false'. Refute it at one input. -/
def fnExactClientOkWrong : ChangeSpec := { name := "fnExactClientOk", fn := fun _ => fun
  | [d] => { results := [.lit (.bool false)], args := [d] }
  | _ => none }
def FnExactClientOkWrongFalsely : Prop := fnExactClientOkRow.holds Try.pinned (OpenSpec.ofChange fnExactClientOkWrong)

/- THE SECOND FORM. 'bulk': how many values and letters a reading holds, each counted each time it is reached (what is shared counts as often as it is met; a slice's spare places count too). A statement '..UptoSaid' is the law's where the arguments, and the package variables that the reading takes, are together of bulk at most 1048576: NARROWER than '..Said'. Prove '..Said' where nothing that the law and all that it calls make is longer than what came in: it says more and counts as full. Else prove '..UptoSaid'. A law counts once. -/
mutual
def uptoBulk {H : Type} : DataW H → Nat
  | .lit (.string bytes) => bytes.length + 1
  | .lit _ => 1
  | .nil => 1
  | .ptr d => uptoBulk d + 1
  | .slice elems spare => uptoBulkAll elems + uptoBulkAll spare + 1
  | .agg parts => uptoBulkAll parts + 1
  | .iface _ d => uptoBulk d + 1
  | .map entries => uptoBulkEntries entries + 1
  | .held _ => 1
def uptoBulkAll {H : Type} : List (DataW H) → Nat
  | [] => 0
  | d :: r => uptoBulk d + uptoBulkAll r
def uptoBulkEntries {H : Type} : List (Lit × DataW H) → Nat
  | [] => 0
  | x :: r => uptoBulkEntry x + uptoBulkEntries r
def uptoBulkEntry {H : Type} : Lit × DataW H → Nat
  | (.string bytes, d) => bytes.length + uptoBulk d + 1
  | (_, d) => uptoBulk d + 1
 end
def uptoSmall : (H : Type) → List (DataW H) → Bool := fun _ ds => decide (uptoBulkAll ds ≤ 1048576)
def OpenSpec.upto (s : _root_.Go.ChangeSpec) : _root_.Go.OpenSpec := { _root_.Go.OpenSpec.ofChange s with cond := some uptoSmall }

/-- 'laws.FnExactPreface', WHERE WHAT IT READS IS OF BULK AT MOST 1048576: true; the input reads as it did. -/
def fnExactPrefaceUptoRow : OpenClaim := { program := "ytlalebaaabdihaw", sum := "8eb2e1ea676af64ab1eb483c9a9cf7281ecbbf839a1f9f87a961c81f98a0110d", func := "loop.example/g00199/laws.FnExactPreface", spec := "fnExactPreface", apart := false, narrowed := true }
def FnExactPrefaceUptoSaid : Prop := fnExactPrefaceUptoRow.holds Try.pinned (OpenSpec.upto fnExactPrefaceSpec)

/-- 'laws.FnExactClientNew', WHERE WHAT IT READS IS OF BULK AT MOST 1048576: true; the input reads as it did. -/
def fnExactClientNewUptoRow : OpenClaim := { program := "ytlalebaaabdihaw", sum := "8eb2e1ea676af64ab1eb483c9a9cf7281ecbbf839a1f9f87a961c81f98a0110d", func := "loop.example/g00199/laws.FnExactClientNew", spec := "fnExactClientNew", apart := false, narrowed := true }
def FnExactClientNewUptoSaid : Prop := fnExactClientNewUptoRow.holds Try.pinned (OpenSpec.upto fnExactClientNewSpec)

/-- 'laws.FnExactClientOk', WHERE WHAT IT READS IS OF BULK AT MOST 1048576: true; the input reads as it did. -/
def fnExactClientOkUptoRow : OpenClaim := { program := "ytlalebaaabdihaw", sum := "8eb2e1ea676af64ab1eb483c9a9cf7281ecbbf839a1f9f87a961c81f98a0110d", func := "loop.example/g00199/laws.FnExactClientOk", spec := "fnExactClientOk", apart := false, narrowed := true }
def FnExactClientOkUptoSaid : Prop := fnExactClientOkUptoRow.holds Try.pinned (OpenSpec.upto fnExactClientOkSpec)

end Rows
end Go.Proofs.Ytlalebaaabdihaw
