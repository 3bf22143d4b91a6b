/- Variables of three cells. No program in it. Variables of three and of four cells, written into. No program in it. A variable of two cells: no program in it. Rows of texts and the block that they lie in. No program in it but its table of types. An answer that is a disk: its rows lie in memory from base on, and apart. No program in it. -/
import Derived.Test.YtenkpgnkkkgdmaeDoorM03
import Derived.Test.YtenkpgnkkkgdmaeDoorM01
import Derived.Test.YtenkpgnkkkgdmaeDoorM02
import Derived.Deep.AppendSrc
namespace Go.Proofs.YtenkpgnkkkgdmaeDoor
open Go.RowKit
set_option linter.unusedVariables false

/-- A variable of three cells. -/
def Box3 (W : World) (b : Nat) (t : TypeId) (x y z : Value) : Prop := W.heap[b]? = some (.cells #[x, y, z] t (0, 0))

theorem Box3.lt {W : World} {b : Nat} {t : TypeId} {x y z : Value} (h : Box3 W b t x y z) : b < W.heap.size := (Array.getElem?_eq_some_iff.1 h).1

theorem Box3.stays {W W' : World} {b : Nat} {t : TypeId} {x y z : Value} (h : Box3 W b t x y z) (hb : Below W.heap.size W W') : Box3 W' b t x y z := (hb.block b h.lt).trans h

theorem Box3.alloc {W : World} {b : Nat} {t : TypeId} {x y z : Value} (h : Box3 W b t x y z) (o : Obj) : Box3 (W.alloc o) b t x y z := by
  have hl := h.lt
  show (W.heap.push o)[b]? = _
  rw [Array.getElem?_push, if_neg (by omega)]
  exact h

theorem Box3.new (W : World) (t : TypeId) (x y z : Value) : Box3 (W.alloc (.cells #[x, y, z] t)) W.heap.size t x y z := heap_alloc_new W _

theorem Box3.cells {W : World} {b : Nat} {t : TypeId} {x y z : Value} (h : Box3 W b t x y z) : W.cell? ⟨b, 0, none⟩ = some x ∧ W.cell? ⟨b, 1, none⟩ = some y ∧ W.cell? ⟨b, 2, none⟩ = some z := by
  refine ⟨?_, ?_, ?_⟩ <;> (rw [cell_of_row _ _ _ _ _ _ h]; rfl)

theorem Box3.frozen {W : World} {b : Nat} {t : TypeId} {x y z : Value} (h : Box3 W b t x y z) (i : Nat) : W.frozen? ⟨b, i, none⟩ = false := by simp [World.frozen?, show W.heap[b]? = _ from h]

theorem Box3.grown {W W' : World} {b : Nat} {t : TypeId} {x y z : Value} {r : Option Nat} (h : Box3 W b t x y z) (hg : W.grownBy W' r) (hr : r ≠ some b) : Box3 W' b t x y z := (hg.block b h.lt (Ne.symm hr)).trans h

end Go.Proofs.YtenkpgnkkkgdmaeDoor

namespace Go.Proofs.YtenkpgnkkkgdmaeDoor
open Go.RowKit
set_option linter.unusedVariables false

theorem box4_set0 {W : World} {b : Nat} {t : TypeId} {x y z u : Value} (h : Box4 W b t x y z u) (v : Value) : Box4 (W.setCell ⟨b, 0, none⟩ v) b t v y z u := by
  show (W.setCell ⟨b, 0, none⟩ v).heap[b]? = _
  rw [setCell_eq_setRow W b 0 _ t (0, 0) _ h, setRow_heap W b _ _ t (0, 0) h]
  rfl

theorem box4_set1 {W : World} {b : Nat} {t : TypeId} {x y z u : Value} (h : Box4 W b t x y z u) (v : Value) : Box4 (W.setCell ⟨b, 1, none⟩ v) b t x v z u := by
  show (W.setCell ⟨b, 1, none⟩ v).heap[b]? = _
  rw [setCell_eq_setRow W b 1 _ t (0, 0) _ h, setRow_heap W b _ _ t (0, 0) h]
  rfl

theorem box4_set2 {W : World} {b : Nat} {t : TypeId} {x y z u : Value} (h : Box4 W b t x y z u) (v : Value) : Box4 (W.setCell ⟨b, 2, none⟩ v) b t x y v u := by
  show (W.setCell ⟨b, 2, none⟩ v).heap[b]? = _
  rw [setCell_eq_setRow W b 2 _ t (0, 0) _ h, setRow_heap W b _ _ t (0, 0) h]
  rfl

theorem box4_set3 {W : World} {b : Nat} {t : TypeId} {x y z u : Value} (h : Box4 W b t x y z u) (v : Value) : Box4 (W.setCell ⟨b, 3, none⟩ v) b t x y z v := by
  show (W.setCell ⟨b, 3, none⟩ v).heap[b]? = _
  rw [setCell_eq_setRow W b 3 _ t (0, 0) _ h, setRow_heap W b _ _ t (0, 0) h]
  rfl

theorem box3_set0 {W : World} {b : Nat} {t : TypeId} {x y z : Value} (h : Box3 W b t x y z) (v : Value) : Box3 (W.setCell ⟨b, 0, none⟩ v) b t v y z := by
  show (W.setCell ⟨b, 0, none⟩ v).heap[b]? = _
  rw [setCell_eq_setRow W b 0 _ t (0, 0) _ h, setRow_heap W b _ _ t (0, 0) h]
  rfl

theorem box3_set1 {W : World} {b : Nat} {t : TypeId} {x y z : Value} (h : Box3 W b t x y z) (v : Value) : Box3 (W.setCell ⟨b, 1, none⟩ v) b t x v z := by
  show (W.setCell ⟨b, 1, none⟩ v).heap[b]? = _
  rw [setCell_eq_setRow W b 1 _ t (0, 0) _ h, setRow_heap W b _ _ t (0, 0) h]
  rfl

theorem box3_set2 {W : World} {b : Nat} {t : TypeId} {x y z : Value} (h : Box3 W b t x y z) (v : Value) : Box3 (W.setCell ⟨b, 2, none⟩ v) b t x y v := by
  show (W.setCell ⟨b, 2, none⟩ v).heap[b]? = _
  rw [setCell_eq_setRow W b 2 _ t (0, 0) _ h, setRow_heap W b _ _ t (0, 0) h]
  rfl

theorem set_block_ne (w : World) (b b' k : Nat) (v : Value) (h : b ≠ b') : (w.setCell ⟨b', k, none⟩ v).heap[b]? = w.heap[b]? := by
  simp [World.setCell, Array.getElem?_modify, Ne.symm h]

theorem grownBy_set (W : World) (b k : Nat) (v : Value) : W.grownBy (W.setCell ⟨b, k, none⟩ v) (some b) :=
  ⟨rfl, rfl, rfl, by simp, fun i _ hne => set_block_ne W i b k v (fun e => hne (by rw [e]))⟩

/-- A variable of another block is as it was. -/
theorem box4_other {W : World} {b b' k : Nat} {t : TypeId} {x y z u v : Value} (h : Box4 W b t x y z u) (hne : b ≠ b') : Box4 (W.setCell ⟨b', k, none⟩ v) b t x y z u := (set_block_ne W b b' k v hne).trans h

theorem box3_other {W : World} {b b' k : Nat} {t : TypeId} {x y z v : Value} (h : Box3 W b t x y z) (hne : b ≠ b') : Box3 (W.setCell ⟨b', k, none⟩ v) b t x y z := (set_block_ne W b b' k v hne).trans h

/-- A row of the call's own is as it was where another block is written. -/
theorem owns_set {W : World} {base n cap b' k : Nat} {a : Option Addr} {zs : List Int} {v : Value} (h : Owns W base a n cap zs) (hne : a.map (·.block) ≠ some b') : Owns (W.setCell ⟨b', k, none⟩ v) base a n cap zs := by
  refine ⟨⟨h.1.1, ?_⟩, h.2⟩
  rcases h.1.2 with h0 | ⟨g, cap', cur, he, hb, hg, r⟩
  · exact .inl h0
  · injection he with e1 e2 e3
    subst e1
    refine .inr ⟨g, cap', cur, by rw [e3], hb, ?_, r⟩
    rw [set_block_ne W g b' k v (fun e => hne (by rw [← e]; rfl))]
    exact hg

end Go.Proofs.YtenkpgnkkkgdmaeDoor

namespace Go.Proofs.YtenkpgnkkkgdmaeDoor
open Go.RowKit
set_option linter.unusedVariables false

/-- The block holds a variable of two cells. -/
def Box2R (W : World) (b : Nat) (t : TypeId) (x y : Value) : Prop := W.heap[b]? = some (.cells #[x, y] t (0, 0))

theorem Box2R.lt {W : World} {b : Nat} {t : TypeId} {x y : Value} (h : Box2R W b t x y) : b < W.heap.size := (Array.getElem?_eq_some_iff.1 h).1

theorem Box2R.stays {W W' : World} {b : Nat} {t : TypeId} {x y : Value} (h : Box2R W b t x y) (hb : Below W.heap.size W W') : Box2R W' b t x y := (hb.block b h.lt).trans h

theorem Box2R.alloc {W : World} {b : Nat} {t : TypeId} {x y : Value} (h : Box2R W b t x y) (o : Obj) : Box2R (W.alloc o) b t x y := h.stays ((Below.refl _ _).alloc (Nat.le_refl _) _)

theorem Box2R.new (W : World) (t : TypeId) (x y : Value) : Box2R (W.alloc (.cells #[x, y] t)) W.heap.size t x y := heap_alloc_new W _

theorem Box2R.cells {W : World} {b : Nat} {t : TypeId} {x y : Value} (h : Box2R W b t x y) : W.cell? ⟨b, 0, none⟩ = some x ∧ W.cell? ⟨b, 1, none⟩ = some y := by
  have h' : W.heap[b]? = some (.cells #[x, y] t (0, 0)) := h
  exact ⟨by rw [cell_of_row _ _ _ _ _ _ h']; rfl, by rw [cell_of_row _ _ _ _ _ _ h']; rfl⟩

theorem Box2R.frozen {W : World} {b : Nat} {t : TypeId} {x y : Value} (h : Box2R W b t x y) (i : Nat) : W.frozen? ⟨b, i, none⟩ = false := by simp [World.frozen?, show W.heap[b]? = _ from h]

theorem Box2R.grown {W W' : World} {b : Nat} {t : TypeId} {x y : Value} {r : Option Nat} (h : Box2R W b t x y) (hg : W.grownBy W' r) (hr : r ≠ some b) : Box2R W' b t x y := (hg.block b h.lt (Ne.symm hr)).trans h

theorem Box2R.set0 {W : World} {b : Nat} {t : TypeId} {x y : Value} (h : Box2R W b t x y) (v : Value) : Box2R (W.setCell ⟨b, 0, none⟩ v) b t v y := by
  show (W.setCell ⟨b, 0, none⟩ v).heap[b]? = _
  rw [setCell_eq_setRow W b 0 _ t (0, 0) _ h, setRow_heap W b _ _ t (0, 0) h]
  rfl

theorem Box2R.set1 {W : World} {b : Nat} {t : TypeId} {x y : Value} (h : Box2R W b t x y) (v : Value) : Box2R (W.setCell ⟨b, 1, none⟩ v) b t x v := by
  show (W.setCell ⟨b, 1, none⟩ v).heap[b]? = _
  rw [setCell_eq_setRow W b 1 _ t (0, 0) _ h, setRow_heap W b _ _ t (0, 0) h]
  rfl

theorem Box2R.other {W : World} {b b' k : Nat} {t : TypeId} {x y : Value} (h : Box2R W b t x y) (hne : b ≠ b') (v : Value) : Box2R (W.setCell ⟨b', k, none⟩ v) b t x y := (set_block_ne W b b' k v hne).trans h

end Go.Proofs.YtenkpgnkkkgdmaeDoor

namespace Go.Proofs.YtenkpgnkkkgdmaeDoor
open Go.RowKit
set_option linter.unusedVariables false

/-- What lies behind a slice value, if it has a block. -/
def blkOf : Value → Option Nat
  | .slice (some p) _ _ => some p.block
  | _ => none

theorem OwnSt.low {w : World} {base lo n : Nat} {v : Value} {l : List ByteArray} (h : OwnSt w base v n l) (hl : lo ≤ base) : OwnSt w lo v n l := by
  refine ⟨⟨h.1.1, ?_⟩, h.2⟩
  rcases h.1.2 with h0 | ⟨g, cap, cur, he, hg, r⟩
  · exact .inl h0
  · exact .inr ⟨g, cap, cur, he, Nat.le_trans hl hg, r⟩

theorem OwnSt.lt {w : World} {base n : Nat} {v : Value} {l : List ByteArray} (h : OwnSt w base v n l) : ∀ q, blkOf v = some q → base ≤ q ∧ q < w.heap.size := by
  intro q hq
  rcases h.1.2 with ⟨rfl, _⟩ | ⟨g, cap, cur, rfl, hg, hh, _⟩
  · simp [blkOf] at hq
  · obtain rfl : g = q := by simpa [blkOf] using hq
    exact ⟨hg, (Array.getElem?_eq_some_iff.1 hh).1⟩

theorem OwnSt.kept {w w' : World} {base n : Nat} {v : Value} {l : List ByteArray} {r : Option Nat} (h : OwnSt w base v n l) (hg : w.grownBy w' r) (hr : ∀ q, r = some q → blkOf v ≠ some q) : OwnSt w' base v n l := by
  refine h.grown hg fun q hq p m c hv hne => hr q hq ?_
  rw [hv, ← hne]
  rfl

theorem OwnSt.setCell {w : World} {base n : Nat} {v : Value} {l : List ByteArray} (h : OwnSt w base v n l) {b k : Nat} (hb : blkOf v ≠ some b) (u : Value) : OwnSt (w.setCell ⟨b, k, none⟩ u) base v n l := by
  refine ⟨⟨h.1.1, ?_⟩, h.2⟩
  rcases h.1.2 with h0 | ⟨g, cap, cur, rfl, hg, hh, r⟩
  · exact .inl h0
  · exact .inr ⟨g, cap, cur, rfl, hg, (set_block_ne w g b k u (fun e => hb (by rw [blkOf, e]))).trans hh, r⟩

end Go.Proofs.YtenkpgnkkkgdmaeDoor

namespace Go.Proofs.YtenkpgnkkkgdmaeDoor
open Go.RowKit
set_option linter.unusedVariables false

def AnsD (base : Nat) (X Y : List ByteArray) (v : Value) (w' : World) : Prop :=
  ∃ A C A' C', v = .agg #[.slice A X.length C, .slice A' Y.length C'] ∧ OwnSt w' base (.slice A X.length C) X.length X ∧ OwnSt w' base (.slice A' Y.length C') Y.length Y ∧ ∀ q, A.map (·.block) = some q → A'.map (·.block) ≠ some q

theorem AnsD.mk' {base : Nat} {X Y : List ByteArray} {w' : World} {A A' : Option Addr} {n C n' C' : Nat} (hn : X.length = n) (hn' : Y.length = n') (h1 : OwnSt w' base (.slice A n C) n X) (h2 : OwnSt w' base (.slice A' n' C') n' Y) (hne : ∀ q, A.map (·.block) = some q → A'.map (·.block) ≠ some q) : AnsD base X Y (.agg #[.slice A n C, .slice A' n' C']) w' := by
  subst hn hn'
  exact ⟨A, C, A', C', rfl, h1, h2, hne⟩

/-- Texts as what is appended. -/
theorem Strs.src {w : World} {a : Option Addr} {n c : Nat} {l : List ByteArray} (h : Strs w a n l) : Src Tryd.prog 1 52 (.slice a n c) n (scells l) w := by
  cases a with
  | none =>
    have h0 := h.none_nil rfl
    subst h0
    have : l = [] := List.eq_nil_of_length_eq_zero h.1
    subst this
    exact Src.ofNil _ Tryd.underlying52 c
  | some ad => exact Src.ofSlice _ Tryd.underlying52 ad n c _ (by rw [scells_len, h.1, Nat.mul_one]) (h.cells ad rfl) (scells_one l)

theorem cellD_kept {Y : World} {b b' i k : Nat} {v u : Value} (hne : b ≠ b') (h : Y.cell? ⟨b, i, none⟩ = some v) : (Y.setCell ⟨b', k, none⟩ u).cell? ⟨b, i, none⟩ = some v := by
  have e := set_block_ne Y b b' k u hne
  simp only [World.cell?] at h ⊢
  rw [e]
  exact h

end Go.Proofs.YtenkpgnkkkgdmaeDoor
