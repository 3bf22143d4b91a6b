/- A variable of any number of cells: no program in it. -/
import Derived.Test.YtlalebaaabdihaxDoorOwn
import Derived.Test.YtlalebaaabdihaxDoorBox4Set
namespace Go.Proofs.YtlalebaaabdihaxDoor
open Go.RowKit
set_option linter.unusedVariables false

/-- The block holds a variable of these cells. -/
def BoxN (W : World) (b : Nat) (t : TypeId) (vs : List Value) : Prop := W.heap[b]? = some (.cells vs.toArray t (0, 0))

section
variable {W W' : World} {b : Nat} {t : TypeId} {vs : List Value}

theorem BoxN.lt (h : BoxN W b t vs) : b < W.heap.size := (Array.getElem?_eq_some_iff.1 h).1
theorem BoxN.stays (h : BoxN W b t vs) (hb : Below W.heap.size W W') : BoxN W' b t vs := (hb.block b h.lt).trans h
theorem BoxN.alloc (h : BoxN W b t vs) (o : Obj) : BoxN (W.alloc o) b t vs := h.stays ((Below.refl _ _).alloc (Nat.le_refl _) _)
theorem BoxN.new (W : World) (t : TypeId) (vs : List Value) : BoxN (W.alloc (.cells vs.toArray t)) W.heap.size t vs := heap_alloc_new W _

theorem BoxN.cell (h : BoxN W b t vs) (i : Nat) {v : Value} (hv : vs[i]? = some v) : W.cell? ⟨b, i, none⟩ = some v := by
  have h' : W.heap[b]? = some (.cells vs.toArray t (0, 0)) := h
  rw [cell_of_row _ _ _ _ _ _ h', ← hv]
  simp

theorem BoxN.frozen (h : BoxN W b t vs) (i : Nat) : W.frozen? ⟨b, i, none⟩ = false := by simp [World.frozen?, show W.heap[b]? = _ from h]
theorem BoxN.grown {r : Option Nat} (h : BoxN W b t vs) (hg : W.grownBy W' r) (hr : r ≠ some b) : BoxN W' b t vs := (hg.block b h.lt (Ne.symm hr)).trans h

theorem BoxN.set (h : BoxN W b t vs) (i : Nat) (v : Value) : BoxN (W.setCell ⟨b, i, none⟩ v) b t (vs.set i v) := by
  show (W.setCell ⟨b, i, none⟩ v).heap[b]? = _
  rw [setCell_eq_setRow W b i _ t (0, 0) _ h, setRow_heap W b _ _ t (0, 0) h]
  simp

theorem BoxN.other {b' k : Nat} (h : BoxN W b t vs) (hne : b ≠ b') (v : Value) : BoxN (W.setCell ⟨b', k, none⟩ v) b t vs := (set_block_ne W b b' k v hne).trans h
end

end Go.Proofs.YtlalebaaabdihaxDoor
