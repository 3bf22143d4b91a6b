/- A request in a variable, and a row of bytes beside it: both from lo on and below hi. -/
import Derived.Test.YtlalebaaabdihaxBoxN
namespace Go.Proofs.Ytlalebaaabdihax
open Go.RowKit
set_option linter.unusedVariables false

def RqV (W : World) (lo hi b : Nat) (op : Int) (id : ByteArray) (N : Int) (a : Option Addr) (n c : Nat) (zs : List Int) : Prop :=
  BoxN W b 27 [.int .i64 op, .string id, .int .i64 N] ∧ Owns W lo a n c zs ∧ lo ≤ b ∧ b < hi ∧ ∀ q, a.map (·.block) = some q → q ≠ b ∧ q < hi

section
variable {W W' : World} {lo hi b : Nat} {op N : Int} {id : ByteArray} {a : Option Addr} {n c : Nat} {zs : List Int}

theorem RqV.stays (h : RqV W lo hi b op id N a n c zs) (hb : Below W.heap.size W W') : RqV W' lo hi b op id N a n c zs := ⟨h.1.stays hb, h.2.1.below hb, h.2.2⟩

theorem RqV.new (o : Owns W lo a n c zs) (hlo : lo ≤ W.heap.size) : RqV (W.alloc (.cells #[.int .i64 op, .string id, .int .i64 N] 27)) lo (W.heap.size + 1) W.heap.size op id N a n c zs :=
  ⟨BoxN.new _ _ _, o.below ((Below.refl _ _).alloc (Nat.le_refl _) _), hlo, Nat.lt_succ_self _, fun q e => ⟨Nat.ne_of_lt (o.lt q e).2, Nat.lt_succ_of_lt (o.lt q e).2⟩⟩

theorem RqV.row (h : RqV W lo hi b op id N a n c zs) : ∀ q, a.map (·.block) = some q → lo ≤ q ∧ q < hi ∧ q ≠ b := fun q e => ⟨(h.2.1.lt q e).1, (h.2.2.2.2 q e).2, (h.2.2.2.2 q e).1⟩

theorem RqV.kept {r : Option Nat} (h : RqV W lo hi b op id N a n c zs) (hg : W.grownBy W' r) (hr : ∀ q, r = some q → q < lo ∨ hi ≤ q) : RqV W' lo hi b op id N a n c zs := by
  have r1 := h.row
  have h1 := h.2.2.1
  have h2 := h.2.2.2.1
  refine ⟨h.1.grown hg (fun e => by have := hr _ e; omega), ⟨h.2.1.1.kept hg ?_, h.2.1.2⟩, h.2.2⟩
  cases a with
  | none => exact .inl rfl
  | some p =>
    refine .inr fun e => ?_
    have := hr p.block (by rw [← e]; rfl)
    have := r1 p.block rfl
    omega

theorem RqV.marked {k : List Int} (h : RqV W lo hi b op id N a n c zs) (o : Owns W' lo a n c k) (hg : W.grownBy W' (a.map (·.block))) : RqV W' lo hi b op id N a n c k :=
  ⟨h.1.grown hg (fun e => (h.row _ e).2.2 rfl), o, h.2.2⟩
end

end Go.Proofs.Ytlalebaaabdihax
