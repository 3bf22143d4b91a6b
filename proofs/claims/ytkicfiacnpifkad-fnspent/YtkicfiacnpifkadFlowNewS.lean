/- What the specification's FlowNew answers: a flow without lanes. -/
import Derived.Test.YtkicfiacnpifkadLaneRow
import Derived.Test.YtkicfiacnpifkadBox3
import Derived.Test.YtkicfiacnpifkadL1In
namespace Go.Proofs.Ytkicfiacnpifkad
open Go.RowKit
set_option linter.unusedVariables false

/-- The two numbers of a new flow. -/
def newF (n : Int) : Int × Int := if 0 ≤ n ∧ n ≤ 2147483647 then (65535, n) else (0, 0)

set_option maxRecDepth 10000 in
set_option maxHeartbeats 800000 in
theorem specFnew_any (n : Int) (w : World) :
    Calls Try.prog 58 #[.int .i64 n] w fun e w' => e = .returned (.agg #[.int .i64 (newF n).1, .int .i64 (newF n).2, .slice none 0 0]) ∧ Below w.heap.size w w' := by
  by_cases hn : 0 ≤ n ∧ n ≤ 2147483647
  · have HIn : Hid (∀ W : World, Calls Try.prog 39 #[.int .i64 n, .int .i64 0, .int .i64 2147483647] W fun e w' => e = .returned (.bool true) ∧ w' = W) := fun W => l1In_yes _ _ _ W hn.1 hn.2
    rw [newF, if_pos hn]
    dsimp only
    clear hn
    go_enter Try.func58, Try.ntmps58
    go_wp2_with fail
    refine (HIn.out _).mono ?_
    rintro e x ⟨rfl, rfl⟩
    go_wp2
    refine bodyPost_ret (v := .agg #[.int .i64 65535, .int .i64 n, .slice none 0 0]) (by simp [results, Try.f58, go_sem]) rfl ?_
    exact ⟨rfl, by first | exact (Below.refl _ _).alloc (Nat.le_refl _) _ | exact ((Below.refl _ _).alloc (Nat.le_refl _) _).alloc (by simp) _⟩
  · have HIn : Hid (∀ W : World, Calls Try.prog 39 #[.int .i64 n, .int .i64 0, .int .i64 2147483647] W fun e w' => e = .returned (.bool false) ∧ w' = W) := fun W => l1In_no _ _ _ W (by omega)
    rw [newF, if_neg hn]
    dsimp only
    clear hn
    go_enter Try.func58, Try.ntmps58
    go_wp2_with fail
    refine (HIn.out _).mono ?_
    rintro e x ⟨rfl, rfl⟩
    go_wp2
    refine bodyPost_ret (v := .agg #[.int .i64 0, .int .i64 0, .slice none 0 0]) (by simp [results, Try.f58, go_sem]) rfl ?_
    exact ⟨rfl, by first | exact (Below.refl _ _).alloc (Nat.le_refl _) _ | exact ((Below.refl _ _).alloc (Nat.le_refl _) _).alloc (by simp) _⟩

end Go.Proofs.Ytkicfiacnpifkad
