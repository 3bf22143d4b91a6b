/- A request held against itself. -/
import Derived.Test.YtlalebaaabdihaxReqNum
import Derived.Test.YtlalebaaabdihaxBox3
import Derived.WalkKit
namespace Go.Proofs.Ytlalebaaabdihax
open Go.RowKit
set_option linter.unusedVariables false

set_option maxRecDepth 10000 in
theorem eqReq_same (op : Int) (s : ByteArray) (n : Int) (w : World) :
    Calls Try.prog 10 #[.agg #[.int .i64 op, .string s, .int .i64 n], .agg #[.int .i64 op, .string s, .int .i64 n]] w fun e w' => e = .returned (.bool true) ∧ Below w.heap.size w w' := by
  have h1 : (op != op) = false := by simp
  have h2 : (s.toList == s.toList) = true := by simp
  have h2' : (s.toList != s.toList) = false := by simp
  have h3 : (n != n) = false := by simp
  go_enter Try.func10, Try.ntmps10
  go_wp2
  go_ret
  exact ⟨rfl, ((Below.refl _ _).alloc (Nat.le_refl _) _).alloc (by simp) _⟩

end Go.Proofs.Ytlalebaaabdihax
