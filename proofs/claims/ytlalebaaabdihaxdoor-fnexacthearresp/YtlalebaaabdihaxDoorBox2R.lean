/- A variable of two cells: no program in it. -/
import Derived.Test.YtlalebaaabdihaxDoorOwn
import Derived.Test.YtlalebaaabdihaxDoorBox4Set
namespace Go.Proofs.YtlalebaaabdihaxDoor
open Go.RowKit
set_option linter.unusedVariables false

/-- The block holds a variable of two cells. -/
def Box2R (W : World) (b : Nat) (t : TypeId) (x y : Value) : Prop := W.heap[b]? = some (.cells #[x, y] t (0, 0))

theorem Box2R.lt {W : World} {b : Nat} {t : TypeId} {x y : Value} (h : Box2R W b t x y) : b < W.heap.size := (Array.getElem?_eq_some_iff.1 h).1

theorem Box2R.stays {W W' : World} {b : Nat} {t : TypeId} {x y : Value} (h : Box2R W b t x y) (hb : Below W.heap.size W W') : Box2R W' b t x y := (hb.block b h.lt).trans h

theorem Box2R.alloc {W : World} {b : Nat} {t : TypeId} {x y : Value} (h : Box2R W b t x y) (o : Obj) : Box2R (W.alloc o) b t x y := h.stays ((Below.refl _ _).alloc (Nat.le_refl _) _)

theorem Box2R.new (W : World) (t : TypeId) (x y : Value) : Box2R (W.alloc (.cells #[x, y] t)) W.heap.size t x y := heap_alloc_new W _

theorem Box2R.cells {W : World} {b : Nat} {t : TypeId} {x y : Value} (h : Box2R W b t x y) : W.cell? ⟨b, 0, none⟩ = some x ∧ W.cell? ⟨b, 1, none⟩ = some y := by
  have h' : W.heap[b]? = some (.cells #[x, y] t (0, 0)) := h
  exact ⟨by rw [cell_of_row _ _ _ _ _ _ h']; rfl, by rw [cell_of_row _ _ _ _ _ _ h']; rfl⟩

theorem Box2R.frozen {W : World} {b : Nat} {t : TypeId} {x y : Value} (h : Box2R W b t x y) (i : Nat) : W.frozen? ⟨b, i, none⟩ = false := by simp [World.frozen?, show W.heap[b]? = _ from h]

theorem Box2R.grown {W W' : World} {b : Nat} {t : TypeId} {x y : Value} {r : Option Nat} (h : Box2R W b t x y) (hg : W.grownBy W' r) (hr : r ≠ some b) : Box2R W' b t x y := (hg.block b h.lt (Ne.symm hr)).trans h

theorem Box2R.set0 {W : World} {b : Nat} {t : TypeId} {x y : Value} (h : Box2R W b t x y) (v : Value) : Box2R (W.setCell ⟨b, 0, none⟩ v) b t v y := by
  show (W.setCell ⟨b, 0, none⟩ v).heap[b]? = _
  rw [setCell_eq_setRow W b 0 _ t (0, 0) _ h, setRow_heap W b _ _ t (0, 0) h]
  rfl

theorem Box2R.set1 {W : World} {b : Nat} {t : TypeId} {x y : Value} (h : Box2R W b t x y) (v : Value) : Box2R (W.setCell ⟨b, 1, none⟩ v) b t x v := by
  show (W.setCell ⟨b, 1, none⟩ v).heap[b]? = _
  rw [setCell_eq_setRow W b 1 _ t (0, 0) _ h, setRow_heap W b _ _ t (0, 0) h]
  rfl

theorem Box2R.other {W : World} {b b' k : Nat} {t : TypeId} {x y : Value} (h : Box2R W b t x y) (hne : b ≠ b') (v : Value) : Box2R (W.setCell ⟨b', k, none⟩ v) b t x y := (set_block_ne W b b' k v hne).trans h

end Go.Proofs.YtlalebaaabdihaxDoor
