/-
  NARROWER THAN 'FOR EVERY INPUT', by the rows' own cells (each row's printed sentence says how): FnReqs: laid · FnAsked: laid · FnRecords: laid · FnScanned: laid.
  DERIVED. THE GIVEN ROWS OF THIS SEAT. 4 by the template 'for every input the law returns true; each argument reads behind the call as it read before'; 0 by the template 'total and deterministic' (their statements: YtenkpgnkkkgdmaeDoorTotals.lean).
  GIVEN WITH THE SEED: the statements are not yours to turn. If you find one false, say at which input.
  Laid BY PROGRAM, IN A SANDBOX (cutbox-rows.mjs): the forced cells as the released guide's own fill.sh prints them over the translation 20aabd27c75ba131… (all of the seat's roots in one cut). By AI agents, Wed Nov 11 2026. No macro, syntax, notation, axiom, sorry.
-/
import Derived.Test.YtenkpgnkkkgdmaeDoorChecked
import GoSem.Claim
import GoSem.ClaimJoined
import GoSem.ClaimMapViews
import Derived.JoinedTies
import Derived.KernelRfl
namespace Go.Proofs.YtenkpgnkkkgdmaeDoor
/- THE CELL 'sum', in the pinned program and in every row, IS THE sha256 OF THE DUMP (.gsa) THAT YtenkpgnkkkgdmaeDoorProg.lean LOADS. Nothing in Lean hashes anything: it is a label: what it is worth is what the hold of that sum in a sandbox is worth. -/
noncomputable def Tryd.pinned : Pinned := { name := "ytenkpgnkkkgdmaedoor", sum := "20aabd27c75ba131b4ed9f0632c79d9ec831144e943393aa6e9cdd18c9d36e96", checked := Tryd.checked }
namespace Rows
def none {H : Type} : Left H := { results := [], args := [] }

/- WHAT THE LISTED PACKAGE-LEVEL VARIABLES READ AS WHEN THE CALL BEGINS. Each datum BY PROGRAM (the guide's laid-datum.mjs) off the statement by which the dump's own 'gosem.cut.vars' lays the variable. In a bare row this is a premise. The card (YtenkpgnkkkgdmaeDoorCards.lean) ties it to the program's text. -/
def laid_math_bits_deBruijn32tab {H : Type} : DataW H := .agg [.lit (.int .u8 0), .lit (.int .u8 1), .lit (.int .u8 28), .lit (.int .u8 2), .lit (.int .u8 29), .lit (.int .u8 14), .lit (.int .u8 24), .lit (.int .u8 3), .lit (.int .u8 30), .lit (.int .u8 22), .lit (.int .u8 20), .lit (.int .u8 15), .lit (.int .u8 25), .lit (.int .u8 17), .lit (.int .u8 4), .lit (.int .u8 8), .lit (.int .u8 31), .lit (.int .u8 27), .lit (.int .u8 13), .lit (.int .u8 23), .lit (.int .u8 21), .lit (.int .u8 19), .lit (.int .u8 16), .lit (.int .u8 7), .lit (.int .u8 26), .lit (.int .u8 12), .lit (.int .u8 18), .lit (.int .u8 6), .lit (.int .u8 11), .lit (.int .u8 5), .lit (.int .u8 10), .lit (.int .u8 9)]
def laid_math_bits_deBruijn64tab {H : Type} : DataW H := .agg [.lit (.int .u8 0), .lit (.int .u8 1), .lit (.int .u8 56), .lit (.int .u8 2), .lit (.int .u8 57), .lit (.int .u8 49), .lit (.int .u8 28), .lit (.int .u8 3), .lit (.int .u8 61), .lit (.int .u8 58), .lit (.int .u8 42), .lit (.int .u8 50), .lit (.int .u8 38), .lit (.int .u8 29), .lit (.int .u8 17), .lit (.int .u8 4), .lit (.int .u8 62), .lit (.int .u8 47), .lit (.int .u8 59), .lit (.int .u8 36), .lit (.int .u8 45), .lit (.int .u8 43), .lit (.int .u8 51), .lit (.int .u8 22), .lit (.int .u8 53), .lit (.int .u8 39), .lit (.int .u8 33), .lit (.int .u8 30), .lit (.int .u8 24), .lit (.int .u8 18), .lit (.int .u8 12), .lit (.int .u8 5), .lit (.int .u8 63), .lit (.int .u8 55), .lit (.int .u8 48), .lit (.int .u8 27), .lit (.int .u8 60), .lit (.int .u8 41), .lit (.int .u8 37), .lit (.int .u8 16), .lit (.int .u8 46), .lit (.int .u8 35), .lit (.int .u8 44), .lit (.int .u8 21), .lit (.int .u8 52), .lit (.int .u8 32), .lit (.int .u8 23), .lit (.int .u8 11), .lit (.int .u8 54), .lit (.int .u8 26), .lit (.int .u8 40), .lit (.int .u8 15), .lit (.int .u8 34), .lit (.int .u8 20), .lit (.int .u8 31), .lit (.int .u8 10), .lit (.int .u8 25), .lit (.int .u8 14), .lit (.int .u8 19), .lit (.int .u8 9), .lit (.int .u8 13), .lit (.int .u8 8), .lit (.int .u8 7), .lit (.int .u8 6)]
def laid_internal_strconv_uint64pow10 {H : Type} : DataW H := .agg [.lit (.int .u64 1), .lit (.int .u64 10), .lit (.int .u64 100), .lit (.int .u64 1000), .lit (.int .u64 10000), .lit (.int .u64 100000), .lit (.int .u64 1000000), .lit (.int .u64 10000000), .lit (.int .u64 100000000), .lit (.int .u64 1000000000), .lit (.int .u64 10000000000), .lit (.int .u64 100000000000), .lit (.int .u64 1000000000000), .lit (.int .u64 10000000000000), .lit (.int .u64 100000000000000), .lit (.int .u64 1000000000000000), .lit (.int .u64 10000000000000000), .lit (.int .u64 100000000000000000), .lit (.int .u64 1000000000000000000), .lit (.int .u64 10000000000000000000)]
def laid_strconv_ErrRange {H : Type} : DataW H := .iface "*errors.errorString" (.ptr (.agg [.lit (.string [118, 97, 108, 117, 101, 32, 111, 117, 116, 32, 111, 102, 32, 114, 97, 110, 103, 101])]))
def laid_strconv_ErrSyntax {H : Type} : DataW H := .iface "*errors.errorString" (.ptr (.agg [.lit (.string [105, 110, 118, 97, 108, 105, 100, 32, 115, 121, 110, 116, 97, 120])]))
def laid_loop_example_g00199_impl_methods {H : Type} : DataW H := .agg [.agg [.lit (.string []), .lit (.string []), .lit (.int .i64 0)], .agg [.lit (.string [80, 79, 83, 84]), .lit (.string [117, 112, 108, 111, 97, 100, 45, 108, 101, 110, 103, 116, 104]), .lit (.int .i64 1000000000)], .agg [.lit (.string [72, 69, 65, 68]), .lit (.string []), .lit (.int .i64 0)], .agg [.lit (.string [80, 65, 84, 67, 72]), .lit (.string [117, 112, 108, 111, 97, 100, 45, 111, 102, 102, 115, 101, 116]), .lit (.int .i64 1000000000)], .agg [.lit (.string [80, 85, 84]), .lit (.string [117, 112, 108, 111, 97, 100, 45, 115, 117, 109]), .lit (.int .i64 4294967295)], .agg [.lit (.string [71, 69, 84]), .lit (.string []), .lit (.int .i64 0)], .agg [.lit (.string [68, 69, 76, 69, 84, 69]), .lit (.string []), .lit (.int .i64 0)]]
def laid_loop_example_g00199_impl_recForms {H : Type} : DataW H := .agg [.agg [.lit (.int .i64 0), .lit (.int .i64 0), .lit (.int .i64 0)], .agg [.lit (.int .i64 1000000000), .lit (.int .i64 0), .lit (.int .i64 0)], .agg [.lit (.int .i64 1000000000), .lit (.int .i64 1), .lit (.int .i64 24)], .agg [.lit (.int .i64 0), .lit (.int .i64 0), .lit (.int .i64 0)], .agg [.lit (.int .i64 0), .lit (.int .i64 0), .lit (.int .i64 0)]]

/-- 'laws.FnReqs': WHATEVER THE INPUT: true; the input reads as it did. -/
def fnReqsSpec : ChangeSpec := { name := "fnReqs", vars := ["loop.example/g00199/impl.methods"], fn := fun _ => fun
  | [d, g1] => { results := [.lit (.bool true)], args := [d], vars := [g1] }
  | _ => none }
def fnReqsRow : OpenClaim := { program := "ytenkpgnkkkgdmaedoor", sum := "20aabd27c75ba131b4ed9f0632c79d9ec831144e943393aa6e9cdd18c9d36e96", func := "loop.example/g00199/laws.FnReqs", spec := "fnReqs", unfollowed := true, recurses := true, named := ["loop.example/g00199/impl.methods", "internal/strconv.uint64pow10", "math/bits.deBruijn32tab", "math/bits.deBruijn64tab", "strconv.ErrSyntax", "strconv.ErrRange"], apart := false, laid := [("math/bits.deBruijn32tab", laid_math_bits_deBruijn32tab), ("math/bits.deBruijn64tab", laid_math_bits_deBruijn64tab), ("internal/strconv.uint64pow10", laid_internal_strconv_uint64pow10), ("strconv.ErrRange", laid_strconv_ErrRange), ("strconv.ErrSyntax", laid_strconv_ErrSyntax), ("loop.example/g00199/impl.methods", laid_loop_example_g00199_impl_methods)] }
def FnReqsSaid : Prop := fnReqsRow.holds Tryd.pinned (OpenSpec.ofChange fnReqsSpec)

/-- ITS FALSE NEIGHBOUR: 'it returns false'. Refute it at one input. -/
def fnReqsWrong : ChangeSpec := { name := "fnReqs", vars := ["loop.example/g00199/impl.methods"], fn := fun _ => fun
  | [d, g1] => { results := [.lit (.bool false)], args := [d], vars := [g1] }
  | _ => none }
def FnReqsWrongFalsely : Prop := fnReqsRow.holds Tryd.pinned (OpenSpec.ofChange fnReqsWrong)

/-- 'laws.FnAsked': WHATEVER THE INPUT: true; the input reads as it did. -/
def fnAskedSpec : ChangeSpec := { name := "fnAsked", vars := ["loop.example/g00199/impl.methods"], fn := fun _ => fun
  | [d, g1] => { results := [.lit (.bool true)], args := [d], vars := [g1] }
  | _ => none }
def fnAskedRow : OpenClaim := { program := "ytenkpgnkkkgdmaedoor", sum := "20aabd27c75ba131b4ed9f0632c79d9ec831144e943393aa6e9cdd18c9d36e96", func := "loop.example/g00199/laws.FnAsked", spec := "fnAsked", unfollowed := true, recurses := true, named := ["loop.example/g00199/impl.methods", "strconv.ErrSyntax", "strconv.ErrRange", "internal/strconv.uint64pow10", "math/bits.deBruijn32tab", "math/bits.deBruijn64tab"], apart := false, laid := [("math/bits.deBruijn32tab", laid_math_bits_deBruijn32tab), ("math/bits.deBruijn64tab", laid_math_bits_deBruijn64tab), ("internal/strconv.uint64pow10", laid_internal_strconv_uint64pow10), ("strconv.ErrRange", laid_strconv_ErrRange), ("strconv.ErrSyntax", laid_strconv_ErrSyntax), ("loop.example/g00199/impl.methods", laid_loop_example_g00199_impl_methods)] }
def FnAskedSaid : Prop := fnAskedRow.holds Tryd.pinned (OpenSpec.ofChange fnAskedSpec)

/-- ITS FALSE NEIGHBOUR: 'it returns false'. Refute it at one input. -/
def fnAskedWrong : ChangeSpec := { name := "fnAsked", vars := ["loop.example/g00199/impl.methods"], fn := fun _ => fun
  | [d, g1] => { results := [.lit (.bool false)], args := [d], vars := [g1] }
  | _ => none }
def FnAskedWrongFalsely : Prop := fnAskedRow.holds Tryd.pinned (OpenSpec.ofChange fnAskedWrong)

/-- 'laws.FnRecords': WHATEVER THE INPUT: true; the input reads as it did. -/
def fnRecordsSpec : ChangeSpec := { name := "fnRecords", vars := ["loop.example/g00199/impl.recForms"], fn := fun _ => fun
  | [d, g1] => { results := [.lit (.bool true)], args := [d], vars := [g1] }
  | _ => none }
def fnRecordsRow : OpenClaim := { program := "ytenkpgnkkkgdmaedoor", sum := "20aabd27c75ba131b4ed9f0632c79d9ec831144e943393aa6e9cdd18c9d36e96", func := "loop.example/g00199/laws.FnRecords", spec := "fnRecords", named := ["loop.example/g00199/impl.recForms"], apart := false, laid := [("loop.example/g00199/impl.recForms", laid_loop_example_g00199_impl_recForms)] }
def FnRecordsSaid : Prop := fnRecordsRow.holds Tryd.pinned (OpenSpec.ofChange fnRecordsSpec)

/-- ITS FALSE NEIGHBOUR: 'it returns false'. Refute it at one input. -/
def fnRecordsWrong : ChangeSpec := { name := "fnRecords", vars := ["loop.example/g00199/impl.recForms"], fn := fun _ => fun
  | [d, g1] => { results := [.lit (.bool false)], args := [d], vars := [g1] }
  | _ => none }
def FnRecordsWrongFalsely : Prop := fnRecordsRow.holds Tryd.pinned (OpenSpec.ofChange fnRecordsWrong)

/-- 'laws.FnScanned': WHATEVER THE INPUT: true; the input reads as it did. -/
def fnScannedSpec : ChangeSpec := { name := "fnScanned", vars := ["loop.example/g00199/impl.recForms"], fn := fun _ => fun
  | [d, g1] => { results := [.lit (.bool true)], args := [d], vars := [g1] }
  | _ => none }
def fnScannedRow : OpenClaim := { program := "ytenkpgnkkkgdmaedoor", sum := "20aabd27c75ba131b4ed9f0632c79d9ec831144e943393aa6e9cdd18c9d36e96", func := "loop.example/g00199/laws.FnScanned", spec := "fnScanned", named := ["loop.example/g00199/impl.recForms"], apart := false, laid := [("loop.example/g00199/impl.recForms", laid_loop_example_g00199_impl_recForms)] }
def FnScannedSaid : Prop := fnScannedRow.holds Tryd.pinned (OpenSpec.ofChange fnScannedSpec)

/-- ITS FALSE NEIGHBOUR: 'it returns false'. Refute it at one input. -/
def fnScannedWrong : ChangeSpec := { name := "fnScanned", vars := ["loop.example/g00199/impl.recForms"], fn := fun _ => fun
  | [d, g1] => { results := [.lit (.bool false)], args := [d], vars := [g1] }
  | _ => none }
def FnScannedWrongFalsely : Prop := fnScannedRow.holds Tryd.pinned (OpenSpec.ofChange fnScannedWrong)

/- THE SECOND FORM. 'bulk': how many values and letters a reading holds, each counted each time it is reached (what is shared counts as often as it is met; a slice's spare places count too). A statement '..UptoSaid' is the law's where the arguments, and the package variables that the reading takes, are together of bulk at most 1048576: NARROWER than '..Said'. Prove '..Said' where nothing that the law and all that it calls make is longer than what came in: it says more and counts as full. Else prove '..UptoSaid'. A law counts once. -/
mutual
def uptoBulk {H : Type} : DataW H → Nat
  | .lit (.string bytes) => bytes.length + 1
  | .lit _ => 1
  | .nil => 1
  | .ptr d => uptoBulk d + 1
  | .slice elems spare => uptoBulkAll elems + uptoBulkAll spare + 1
  | .agg parts => uptoBulkAll parts + 1
  | .iface _ d => uptoBulk d + 1
  | .map entries => uptoBulkEntries entries + 1
  | .held _ => 1
def uptoBulkAll {H : Type} : List (DataW H) → Nat
  | [] => 0
  | d :: r => uptoBulk d + uptoBulkAll r
def uptoBulkEntries {H : Type} : List (Lit × DataW H) → Nat
  | [] => 0
  | x :: r => uptoBulkEntry x + uptoBulkEntries r
def uptoBulkEntry {H : Type} : Lit × DataW H → Nat
  | (.string bytes, d) => bytes.length + uptoBulk d + 1
  | (_, d) => uptoBulk d + 1
 end
def uptoSmall : (H : Type) → List (DataW H) → Bool := fun _ ds => decide (uptoBulkAll ds ≤ 1048576)
def OpenSpec.upto (s : _root_.Go.ChangeSpec) : _root_.Go.OpenSpec := { _root_.Go.OpenSpec.ofChange s with cond := some uptoSmall }

/-- 'laws.FnReqs', WHERE WHAT IT READS IS OF BULK AT MOST 1048576: true; the input reads as it did. -/
def fnReqsUptoRow : OpenClaim := { program := "ytenkpgnkkkgdmaedoor", sum := "20aabd27c75ba131b4ed9f0632c79d9ec831144e943393aa6e9cdd18c9d36e96", func := "loop.example/g00199/laws.FnReqs", spec := "fnReqs", unfollowed := true, recurses := true, named := ["loop.example/g00199/impl.methods", "internal/strconv.uint64pow10", "math/bits.deBruijn32tab", "math/bits.deBruijn64tab", "strconv.ErrSyntax", "strconv.ErrRange"], apart := false, laid := [("math/bits.deBruijn32tab", laid_math_bits_deBruijn32tab), ("math/bits.deBruijn64tab", laid_math_bits_deBruijn64tab), ("internal/strconv.uint64pow10", laid_internal_strconv_uint64pow10), ("strconv.ErrRange", laid_strconv_ErrRange), ("strconv.ErrSyntax", laid_strconv_ErrSyntax), ("loop.example/g00199/impl.methods", laid_loop_example_g00199_impl_methods)], narrowed := true }
def FnReqsUptoSaid : Prop := fnReqsUptoRow.holds Tryd.pinned (OpenSpec.upto fnReqsSpec)

/-- 'laws.FnAsked', WHERE WHAT IT READS IS OF BULK AT MOST 1048576: true; the input reads as it did. -/
def fnAskedUptoRow : OpenClaim := { program := "ytenkpgnkkkgdmaedoor", sum := "20aabd27c75ba131b4ed9f0632c79d9ec831144e943393aa6e9cdd18c9d36e96", func := "loop.example/g00199/laws.FnAsked", spec := "fnAsked", unfollowed := true, recurses := true, named := ["loop.example/g00199/impl.methods", "strconv.ErrSyntax", "strconv.ErrRange", "internal/strconv.uint64pow10", "math/bits.deBruijn32tab", "math/bits.deBruijn64tab"], apart := false, laid := [("math/bits.deBruijn32tab", laid_math_bits_deBruijn32tab), ("math/bits.deBruijn64tab", laid_math_bits_deBruijn64tab), ("internal/strconv.uint64pow10", laid_internal_strconv_uint64pow10), ("strconv.ErrRange", laid_strconv_ErrRange), ("strconv.ErrSyntax", laid_strconv_ErrSyntax), ("loop.example/g00199/impl.methods", laid_loop_example_g00199_impl_methods)], narrowed := true }
def FnAskedUptoSaid : Prop := fnAskedUptoRow.holds Tryd.pinned (OpenSpec.upto fnAskedSpec)

/-- 'laws.FnRecords', WHERE WHAT IT READS IS OF BULK AT MOST 1048576: true; the input reads as it did. -/
def fnRecordsUptoRow : OpenClaim := { program := "ytenkpgnkkkgdmaedoor", sum := "20aabd27c75ba131b4ed9f0632c79d9ec831144e943393aa6e9cdd18c9d36e96", func := "loop.example/g00199/laws.FnRecords", spec := "fnRecords", named := ["loop.example/g00199/impl.recForms"], apart := false, laid := [("loop.example/g00199/impl.recForms", laid_loop_example_g00199_impl_recForms)], narrowed := true }
def FnRecordsUptoSaid : Prop := fnRecordsUptoRow.holds Tryd.pinned (OpenSpec.upto fnRecordsSpec)

/-- 'laws.FnScanned', WHERE WHAT IT READS IS OF BULK AT MOST 1048576: true; the input reads as it did. -/
def fnScannedUptoRow : OpenClaim := { program := "ytenkpgnkkkgdmaedoor", sum := "20aabd27c75ba131b4ed9f0632c79d9ec831144e943393aa6e9cdd18c9d36e96", func := "loop.example/g00199/laws.FnScanned", spec := "fnScanned", named := ["loop.example/g00199/impl.recForms"], apart := false, laid := [("loop.example/g00199/impl.recForms", laid_loop_example_g00199_impl_recForms)], narrowed := true }
def FnScannedUptoSaid : Prop := fnScannedUptoRow.holds Tryd.pinned (OpenSpec.upto fnScannedSpec)

end Rows
end Go.Proofs.YtenkpgnkkkgdmaeDoor
