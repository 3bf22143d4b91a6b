/- An answer that is a flow, in a variable of the law's. -/
import Derived.Test.YtkicfiacnpifkaqFlowEndsS
import Derived.Test.YtkicfiacnpifkaqFlowTo
import Derived.Test.YtkicfiacnpifkaqFlowMark
namespace Go.Proofs.Ytkicfiacnpifkaq
open Go.RowKit
set_option linter.unusedVariables false

/-- A flow lies in a variable, its lanes in memory of their own, all from lo on and below hi. -/
def FAt (W : World) (lo hi b : Nat) (c i : Int) (A : Option Addr) (m C : Nat) (l : List Lane) : Prop :=
  Box3 W b 28 (.int .i64 c) (.int .i64 i) (.slice A m C) ∧ OwnL W lo A m C l ∧ (lo ≤ b ∧ b < hi) ∧ ∀ q, A.map (·.block) = some q → q < hi

section
variable {W W' : World} {lo hi b : Nat} {c i : Int} {A : Option Addr} {m C : Nat} {l : List Lane}

theorem FAt.stays (h : FAt W lo hi b c i A m C l) (hb : Below W.heap.size W W') : FAt W' lo hi b c i A m C l := ⟨h.1.stays hb, h.2.1.below hb, h.2.2⟩

theorem FAt.new (ho : OwnL W lo A m C l) (hlo : lo ≤ W.heap.size) : FAt (W.alloc (.cells #[.int .i64 c, .int .i64 i, .slice A m C] 28)) lo (W.heap.size + 1) W.heap.size c i A m C l :=
  ⟨Box3.new _ _ _ _ _, ho.below ((Below.refl _ _).alloc (Nat.le_refl _) _), ⟨hlo, by omega⟩, fun q e => by have := (ho.lt q e).2; omega⟩

theorem FAt.kept {r : Option Nat} (h : FAt W lo hi b c i A m C l) (hg : W.grownBy W' r) (hr : ∀ q, r = some q → q < lo ∨ hi ≤ q) : FAt W' lo hi b c i A m C l :=
  ⟨h.1.grown hg (fun e => by have := hr _ e; have := h.2.2.1; omega), h.2.1.kept hg (fun q e e2 => by have := hr q e; have h1 := (h.2.1.lt q e2).1; have h2 := h.2.2.2 q e2; omega), h.2.2⟩

theorem FAt.marked {l' : List Lane} (h : FAt W lo hi b c i A m C l) (ho : OwnL W' lo A m C l') (hg : Only W W' A) : FAt W' lo hi b c i A m C l' :=
  ⟨h.1.grown hg (fun e => h.2.1.other (show W.heap[b]? = _ from h.1) (by decide) e), ho, h.2.2⟩

theorem FAt.row (h : FAt W lo hi b c i A m C l) : ∀ q, A.map (·.block) = some q → lo ≤ q ∧ q < hi := fun q e => ⟨(h.2.1.lt q e).1, h.2.2.2 q e⟩
end

end Go.Proofs.Ytkicfiacnpifkaq
