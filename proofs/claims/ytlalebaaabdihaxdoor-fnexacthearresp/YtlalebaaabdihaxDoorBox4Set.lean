/- Variables of three and of four cells, written into. No program in it. -/
import Derived.Test.YtlalebaaabdihaxDoorBox3
namespace Go.Proofs.YtlalebaaabdihaxDoor
open Go.RowKit
set_option linter.unusedVariables false

theorem box4_set0 {W : World} {b : Nat} {t : TypeId} {x y z u : Value} (h : Box4 W b t x y z u) (v : Value) : Box4 (W.setCell ⟨b, 0, none⟩ v) b t v y z u := by
  show (W.setCell ⟨b, 0, none⟩ v).heap[b]? = _
  rw [setCell_eq_setRow W b 0 _ t (0, 0) _ h, setRow_heap W b _ _ t (0, 0) h]
  rfl

theorem box4_set1 {W : World} {b : Nat} {t : TypeId} {x y z u : Value} (h : Box4 W b t x y z u) (v : Value) : Box4 (W.setCell ⟨b, 1, none⟩ v) b t x v z u := by
  show (W.setCell ⟨b, 1, none⟩ v).heap[b]? = _
  rw [setCell_eq_setRow W b 1 _ t (0, 0) _ h, setRow_heap W b _ _ t (0, 0) h]
  rfl

theorem box4_set2 {W : World} {b : Nat} {t : TypeId} {x y z u : Value} (h : Box4 W b t x y z u) (v : Value) : Box4 (W.setCell ⟨b, 2, none⟩ v) b t x y v u := by
  show (W.setCell ⟨b, 2, none⟩ v).heap[b]? = _
  rw [setCell_eq_setRow W b 2 _ t (0, 0) _ h, setRow_heap W b _ _ t (0, 0) h]
  rfl

theorem box4_set3 {W : World} {b : Nat} {t : TypeId} {x y z u : Value} (h : Box4 W b t x y z u) (v : Value) : Box4 (W.setCell ⟨b, 3, none⟩ v) b t x y z v := by
  show (W.setCell ⟨b, 3, none⟩ v).heap[b]? = _
  rw [setCell_eq_setRow W b 3 _ t (0, 0) _ h, setRow_heap W b _ _ t (0, 0) h]
  rfl

theorem box3_set0 {W : World} {b : Nat} {t : TypeId} {x y z : Value} (h : Box3 W b t x y z) (v : Value) : Box3 (W.setCell ⟨b, 0, none⟩ v) b t v y z := by
  show (W.setCell ⟨b, 0, none⟩ v).heap[b]? = _
  rw [setCell_eq_setRow W b 0 _ t (0, 0) _ h, setRow_heap W b _ _ t (0, 0) h]
  rfl

theorem box3_set1 {W : World} {b : Nat} {t : TypeId} {x y z : Value} (h : Box3 W b t x y z) (v : Value) : Box3 (W.setCell ⟨b, 1, none⟩ v) b t x v z := by
  show (W.setCell ⟨b, 1, none⟩ v).heap[b]? = _
  rw [setCell_eq_setRow W b 1 _ t (0, 0) _ h, setRow_heap W b _ _ t (0, 0) h]
  rfl

theorem box3_set2 {W : World} {b : Nat} {t : TypeId} {x y z : Value} (h : Box3 W b t x y z) (v : Value) : Box3 (W.setCell ⟨b, 2, none⟩ v) b t x y v := by
  show (W.setCell ⟨b, 2, none⟩ v).heap[b]? = _
  rw [setCell_eq_setRow W b 2 _ t (0, 0) _ h, setRow_heap W b _ _ t (0, 0) h]
  rfl

theorem set_block_ne (w : World) (b b' k : Nat) (v : Value) (h : b ≠ b') : (w.setCell ⟨b', k, none⟩ v).heap[b]? = w.heap[b]? := by
  simp [World.setCell, Array.getElem?_modify, Ne.symm h]

theorem grownBy_set (W : World) (b k : Nat) (v : Value) : W.grownBy (W.setCell ⟨b, k, none⟩ v) (some b) :=
  ⟨rfl, rfl, rfl, by simp, fun i _ hne => set_block_ne W i b k v (fun e => hne (by rw [e]))⟩

/-- A variable of another block is as it was. -/
theorem box4_other {W : World} {b b' k : Nat} {t : TypeId} {x y z u v : Value} (h : Box4 W b t x y z u) (hne : b ≠ b') : Box4 (W.setCell ⟨b', k, none⟩ v) b t x y z u := (set_block_ne W b b' k v hne).trans h

theorem box3_other {W : World} {b b' k : Nat} {t : TypeId} {x y z v : Value} (h : Box3 W b t x y z) (hne : b ≠ b') : Box3 (W.setCell ⟨b', k, none⟩ v) b t x y z := (set_block_ne W b b' k v hne).trans h

/-- A row of the call's own is as it was where another block is written. -/
theorem owns_set {W : World} {base n cap b' k : Nat} {a : Option Addr} {zs : List Int} {v : Value} (h : Owns W base a n cap zs) (hne : a.map (·.block) ≠ some b') : Owns (W.setCell ⟨b', k, none⟩ v) base a n cap zs := by
  refine ⟨⟨h.1.1, ?_⟩, h.2⟩
  rcases h.1.2 with h0 | ⟨g, cap', cur, he, hb, hg, r⟩
  · exact .inl h0
  · injection he with e1 e2 e3
    subst e1
    refine .inr ⟨g, cap', cur, by rw [e3], hb, ?_, r⟩
    rw [set_block_ne W g b' k v (fun e => hne (by rw [← e]; rfl))]
    exact hg

end Go.Proofs.YtlalebaaabdihaxDoor
