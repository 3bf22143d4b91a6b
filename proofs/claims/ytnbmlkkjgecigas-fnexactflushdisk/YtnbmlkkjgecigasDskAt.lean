/- A disk in a variable of the law's: its rows lie from lo on and below the variable. -/
import Derived.Test.YtnbmlkkjgecigasDskMk
import Derived.Test.YtnbmlkkjgecigasDskAns
namespace Go.Proofs.Ytnbmlkkjgecigas
open Go.RowKit
set_option linter.unusedVariables false

def DAt (W : World) (lo b : Nat) (A : Option Addr) (m C : Nat) (l : List ByteArray) (A' : Option Addr) (m' C' : Nat) (l' : List ByteArray) : Prop :=
  Box2R W b 26 (.slice A m C) (.slice A' m' C') ∧ OwnSt W lo (.slice A m C) m l ∧ OwnSt W lo (.slice A' m' C') m' l' ∧ lo ≤ b ∧ (∀ q, A.map (·.block) = some q → q < b) ∧ (∀ q, A'.map (·.block) = some q → q < b) ∧ ∀ q, A.map (·.block) = some q → A'.map (·.block) ≠ some q

section
variable {W W' : World} {lo b : Nat} {A : Option Addr} {m C : Nat} {l : List ByteArray} {A' : Option Addr} {m' C' : Nat} {l' : List ByteArray}

theorem DAt.stays (h : DAt W lo b A m C l A' m' C' l') (hb : Below W.heap.size W W') : DAt W' lo b A m C l A' m' C' l' := ⟨h.1.stays hb, h.2.1.below hb, h.2.2.1.below hb, h.2.2.2⟩

theorem DAt.new (o1 : OwnSt W lo (.slice A m C) m l) (o2 : OwnSt W lo (.slice A' m' C') m' l') (hne : ∀ q, A.map (·.block) = some q → A'.map (·.block) ≠ some q) (hlo : lo ≤ W.heap.size) : DAt (W.alloc (.cells #[.slice A m C, .slice A' m' C'] 26)) lo W.heap.size A m C l A' m' C' l' :=
  ⟨Box2R.new _ _ _ _, o1.below ((Below.refl _ _).alloc (Nat.le_refl _) _), o2.below ((Below.refl _ _).alloc (Nat.le_refl _) _), hlo, fun q e => (o1.lt q (by rw [blkOf_slice]; exact e)).2, fun q e => (o2.lt q (by rw [blkOf_slice]; exact e)).2, hne⟩

theorem DAt.row (h : DAt W lo b A m C l A' m' C' l') : (∀ q, A.map (·.block) = some q → lo ≤ q ∧ q < b) ∧ ∀ q, A'.map (·.block) = some q → lo ≤ q ∧ q < b :=
  ⟨fun q e => ⟨(h.2.1.lt q (by rw [blkOf_slice]; exact e)).1, h.2.2.2.2.1 q e⟩, fun q e => ⟨(h.2.2.1.lt q (by rw [blkOf_slice]; exact e)).1, h.2.2.2.2.2.1 q e⟩⟩

theorem DAt.kept {r : Option Nat} (h : DAt W lo b A m C l A' m' C' l') (hg : W.grownBy W' r) (hr : ∀ q, r = some q → q < lo ∨ b < q) : DAt W' lo b A m C l A' m' C' l' := by
  obtain ⟨r1, r2⟩ := h.row
  refine ⟨h.1.grown hg (fun e => by have := hr _ e; have := h.2.2.2.1; omega), h.2.1.kept hg (fun q e e2 => ?_), h.2.2.1.kept hg (fun q e e2 => ?_), h.2.2.2⟩
  · rw [blkOf_slice] at e2
    have := hr q e
    have := r1 q e2
    omega
  · rw [blkOf_slice] at e2
    have := hr q e
    have := r2 q e2
    omega

theorem DAt.kept2 {r r' : Option Nat} (h : DAt W lo b A m C l A' m' C' l') (hg : Two W W' r r') (hr : ∀ q, r = some q → q < lo ∨ b < q) (hr' : ∀ q, r' = some q → q < lo ∨ b < q) : DAt W' lo b A m C l A' m' C' l' := by
  obtain ⟨w1, g1, g2⟩ := hg
  exact (h.kept g1 hr).kept g2 hr'

theorem DAt.marked {k k' : List ByteArray} (h : DAt W lo b A m C l A' m' C' l') (o1 : OwnSt W' lo (.slice A m C) m k) (o2 : OwnSt W' lo (.slice A' m' C') m' k') (hg : Two W W' (A.map (·.block)) (A'.map (·.block))) : DAt W' lo b A m C k A' m' C' k' := by
  obtain ⟨w1, g1, g2⟩ := hg
  exact ⟨(h.1.grown g1 (fun e => by have := h.2.2.2.2.1 _ e; omega)).grown g2 (fun e => by have := h.2.2.2.2.2.1 _ e; omega), o1, o2, h.2.2.2⟩
end

theorem box_kept2 {W W' : World} {b : Nat} {t : TypeId} {x y : Value} {r r' : Option Nat} (h : Box2R W b t x y) (hg : Two W W' r r') (hr : r ≠ some b) (hr' : r' ≠ some b) : Box2R W' b t x y := by
  obtain ⟨w1, g1, g2⟩ := hg
  exact (h.grown g1 hr).grown g2 hr'

theorem below_two {B : Nat} {w W W' : World} {r r' : Option Nat} (h : Below B w W) (hB : B ≤ W.heap.size) (hg : Two W W' r r') (hr : ∀ q, r = some q → B ≤ q) (hr' : ∀ q, r' = some q → B ≤ q) : Below B w W' := by
  obtain ⟨w1, g1, g2⟩ := hg
  exact (h.grown g1 hB hr).grown g2 (Nat.le_trans hB g1.size) hr'

end Go.Proofs.Ytnbmlkkjgecigas
