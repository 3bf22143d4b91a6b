/- Variables of three and of four cells, written into. No program in it. A variable of any number of cells: no program in it. A cell that is written; no program in it. A row of uploads that another row comes of: some of its uploads, and ones without bytes. No statement of the program but its table of types. The small facts of Own, under the name that the other texts import. -/
import Derived.Test.YtogopmngbjkcjafDoorM04
import Derived.Test.YtogopmngbjkcjafDoorM01
namespace Go.Proofs.YtogopmngbjkcjafDoor
open Go.RowKit
set_option linter.unusedVariables false

theorem box4_set0 {W : World} {b : Nat} {t : TypeId} {x y z u : Value} (h : Box4 W b t x y z u) (v : Value) : Box4 (W.setCell ⟨b, 0, none⟩ v) b t v y z u := by
  show (W.setCell ⟨b, 0, none⟩ v).heap[b]? = _
  rw [setCell_eq_setRow W b 0 _ t (0, 0) _ h, setRow_heap W b _ _ t (0, 0) h]
  rfl

theorem box4_set1 {W : World} {b : Nat} {t : TypeId} {x y z u : Value} (h : Box4 W b t x y z u) (v : Value) : Box4 (W.setCell ⟨b, 1, none⟩ v) b t x v z u := by
  show (W.setCell ⟨b, 1, none⟩ v).heap[b]? = _
  rw [setCell_eq_setRow W b 1 _ t (0, 0) _ h, setRow_heap W b _ _ t (0, 0) h]
  rfl

theorem box4_set2 {W : World} {b : Nat} {t : TypeId} {x y z u : Value} (h : Box4 W b t x y z u) (v : Value) : Box4 (W.setCell ⟨b, 2, none⟩ v) b t x y v u := by
  show (W.setCell ⟨b, 2, none⟩ v).heap[b]? = _
  rw [setCell_eq_setRow W b 2 _ t (0, 0) _ h, setRow_heap W b _ _ t (0, 0) h]
  rfl

theorem box4_set3 {W : World} {b : Nat} {t : TypeId} {x y z u : Value} (h : Box4 W b t x y z u) (v : Value) : Box4 (W.setCell ⟨b, 3, none⟩ v) b t x y z v := by
  show (W.setCell ⟨b, 3, none⟩ v).heap[b]? = _
  rw [setCell_eq_setRow W b 3 _ t (0, 0) _ h, setRow_heap W b _ _ t (0, 0) h]
  rfl

theorem box3_set0 {W : World} {b : Nat} {t : TypeId} {x y z : Value} (h : Box3 W b t x y z) (v : Value) : Box3 (W.setCell ⟨b, 0, none⟩ v) b t v y z := by
  show (W.setCell ⟨b, 0, none⟩ v).heap[b]? = _
  rw [setCell_eq_setRow W b 0 _ t (0, 0) _ h, setRow_heap W b _ _ t (0, 0) h]
  rfl

theorem box3_set1 {W : World} {b : Nat} {t : TypeId} {x y z : Value} (h : Box3 W b t x y z) (v : Value) : Box3 (W.setCell ⟨b, 1, none⟩ v) b t x v z := by
  show (W.setCell ⟨b, 1, none⟩ v).heap[b]? = _
  rw [setCell_eq_setRow W b 1 _ t (0, 0) _ h, setRow_heap W b _ _ t (0, 0) h]
  rfl

theorem box3_set2 {W : World} {b : Nat} {t : TypeId} {x y z : Value} (h : Box3 W b t x y z) (v : Value) : Box3 (W.setCell ⟨b, 2, none⟩ v) b t x y v := by
  show (W.setCell ⟨b, 2, none⟩ v).heap[b]? = _
  rw [setCell_eq_setRow W b 2 _ t (0, 0) _ h, setRow_heap W b _ _ t (0, 0) h]
  rfl

theorem set_block_ne (w : World) (b b' k : Nat) (v : Value) (h : b ≠ b') : (w.setCell ⟨b', k, none⟩ v).heap[b]? = w.heap[b]? := by
  simp [World.setCell, Array.getElem?_modify, Ne.symm h]

theorem grownBy_set (W : World) (b k : Nat) (v : Value) : W.grownBy (W.setCell ⟨b, k, none⟩ v) (some b) :=
  ⟨rfl, rfl, rfl, by simp, fun i _ hne => set_block_ne W i b k v (fun e => hne (by rw [e]))⟩

/-- A variable of another block is as it was. -/
theorem box4_other {W : World} {b b' k : Nat} {t : TypeId} {x y z u v : Value} (h : Box4 W b t x y z u) (hne : b ≠ b') : Box4 (W.setCell ⟨b', k, none⟩ v) b t x y z u := (set_block_ne W b b' k v hne).trans h

theorem box3_other {W : World} {b b' k : Nat} {t : TypeId} {x y z v : Value} (h : Box3 W b t x y z) (hne : b ≠ b') : Box3 (W.setCell ⟨b', k, none⟩ v) b t x y z := (set_block_ne W b b' k v hne).trans h

/-- A row of the call's own is as it was where another block is written. -/
theorem owns_set {W : World} {base n cap b' k : Nat} {a : Option Addr} {zs : List Int} {v : Value} (h : Owns W base a n cap zs) (hne : a.map (·.block) ≠ some b') : Owns (W.setCell ⟨b', k, none⟩ v) base a n cap zs := by
  refine ⟨⟨h.1.1, ?_⟩, h.2⟩
  rcases h.1.2 with h0 | ⟨g, cap', cur, he, hb, hg, r⟩
  · exact .inl h0
  · injection he with e1 e2 e3
    subst e1
    refine .inr ⟨g, cap', cur, by rw [e3], hb, ?_, r⟩
    rw [set_block_ne W g b' k v (fun e => hne (by rw [← e]; rfl))]
    exact hg

end Go.Proofs.YtogopmngbjkcjafDoor

namespace Go.Proofs.YtogopmngbjkcjafDoor
open Go.RowKit
set_option linter.unusedVariables false

/-- The block holds a variable of these cells. -/
def BoxN (W : World) (b : Nat) (t : TypeId) (vs : List Value) : Prop := W.heap[b]? = some (.cells vs.toArray t (0, 0))

section
variable {W W' : World} {b : Nat} {t : TypeId} {vs : List Value}

theorem BoxN.lt (h : BoxN W b t vs) : b < W.heap.size := (Array.getElem?_eq_some_iff.1 h).1
theorem BoxN.stays (h : BoxN W b t vs) (hb : Below W.heap.size W W') : BoxN W' b t vs := (hb.block b h.lt).trans h
theorem BoxN.alloc (h : BoxN W b t vs) (o : Obj) : BoxN (W.alloc o) b t vs := h.stays ((Below.refl _ _).alloc (Nat.le_refl _) _)
theorem BoxN.new (W : World) (t : TypeId) (vs : List Value) : BoxN (W.alloc (.cells vs.toArray t)) W.heap.size t vs := heap_alloc_new W _

theorem BoxN.cell (h : BoxN W b t vs) (i : Nat) {v : Value} (hv : vs[i]? = some v) : W.cell? ⟨b, i, none⟩ = some v := by
  have h' : W.heap[b]? = some (.cells vs.toArray t (0, 0)) := h
  rw [cell_of_row _ _ _ _ _ _ h', ← hv]
  simp

theorem BoxN.frozen (h : BoxN W b t vs) (i : Nat) : W.frozen? ⟨b, i, none⟩ = false := by simp [World.frozen?, show W.heap[b]? = _ from h]
theorem BoxN.grown {r : Option Nat} (h : BoxN W b t vs) (hg : W.grownBy W' r) (hr : r ≠ some b) : BoxN W' b t vs := (hg.block b h.lt (Ne.symm hr)).trans h

theorem BoxN.set (h : BoxN W b t vs) (i : Nat) (v : Value) : BoxN (W.setCell ⟨b, i, none⟩ v) b t (vs.set i v) := by
  show (W.setCell ⟨b, i, none⟩ v).heap[b]? = _
  rw [setCell_eq_setRow W b i _ t (0, 0) _ h, setRow_heap W b _ _ t (0, 0) h]
  simp

theorem BoxN.other {b' k : Nat} (h : BoxN W b t vs) (hne : b ≠ b') (v : Value) : BoxN (W.setCell ⟨b', k, none⟩ v) b t vs := (set_block_ne W b b' k v hne).trans h
end

end Go.Proofs.YtogopmngbjkcjafDoor

namespace Go.Proofs.YtogopmngbjkcjafDoor
open Go.RowKit
set_option linter.unusedVariables false

theorem grownBy_setU (w : World) (b i : Nat) (v : Value) : w.grownBy (w.setCell ⟨b, i, none⟩ v) (some b) := ⟨rfl, rfl, rfl, by simp, fun k _ hk => set_block_ne w k b i v (fun e => hk (by rw [e]))⟩

theorem grown_cell {W W' : World} {q : Option Nat} {g i : Nat} (h : W.grownBy W' q) (hg : g < W.heap.size) (hn : some g ≠ q) : W'.cell? ⟨g, i, none⟩ = W.cell? ⟨g, i, none⟩ := by simp only [World.cell?]; rw [h.block g hg hn]
theorem grown_frozen {W W' : World} {q : Option Nat} {g i : Nat} (h : W.grownBy W' q) (hg : g < W.heap.size) (hn : some g ≠ q) : W'.frozen? ⟨g, i, none⟩ = W.frozen? ⟨g, i, none⟩ := by simp only [World.frozen?]; rw [h.block g hg hn]

end Go.Proofs.YtogopmngbjkcjafDoor

namespace Go.Proofs.YtogopmngbjkcjafDoor
open Go.RowKit
set_option linter.unusedVariables false

theorem owns_nil (W : World) (base : Nat) : Owns W base none 0 0 [] := ⟨⟨rfl, .inl ⟨rfl, rfl⟩⟩, by simp⟩

/-- Another row of the same uploads, and of ones without bytes. -/
theorem UpRow.remade {W W' : World} {base : Nat} {v v' : Value} {l l' : List UE} (h : UpRow W base v l) (ho : W'.ownsRow base 30 4 v' l'.length (ueCells l')) (hg : W.grownBy W' v.ownBlock) (hin : ∀ e ∈ l', e ∈ l ∨ (e.a = none ∧ e.n = 0 ∧ e.c = 0 ∧ e.u.zs = [])) (hp : l'.Pairwise uapart) : UpRow W' base v' l' := by
  refine ⟨ho, fun e he => ?_, hp⟩
  rcases hin e he with h1 | ⟨h1, h2, h3, h4⟩
  · exact (h.2.1 e h1).grown hg (fun q hq => h.rowApart (h.2.1 e h1) q hq)
  · rw [h1, h2, h3, h4]
    exact owns_nil _ _

theorem uapart_none {e x : UE} (h : x.a = none) : uapart e x ∧ uapart x e := ⟨fun q _ => by rw [h]; simp, fun q hq => by rw [h] at hq; simp at hq⟩

theorem upair_ins {l : List UE} {x : UE} (k : Nat) (h : l.Pairwise uapart) (hx : x.a = none) : (l.take k ++ [x] ++ l.drop k).Pairwise uapart := by
  have h2 := h
  rw [← List.take_append_drop k l, List.pairwise_append] at h2
  rw [List.append_assoc, List.pairwise_append]
  refine ⟨h2.1, ?_, fun y hy z hz => ?_⟩
  · rw [List.singleton_append, List.pairwise_cons]
    exact ⟨fun z _ => (uapart_none hx).2, h2.2.1⟩
  · rw [List.singleton_append] at hz
    rcases List.mem_cons.1 hz with rfl | hz
    · exact (uapart_none hx).1
    · exact h2.2.2 y hy z hz

/-- A row of uploads is no variable of another type. -/
theorem BoxN.noRow {W : World} {b base n size : Nat} {t e : TypeId} {vs xs : List Value} {v : Value} (h : BoxN W b t vs) (ho : W.ownsRow base e size v n xs) (hne : t ≠ e) : v.ownBlock ≠ some b := by
  intro hq
  rcases ho.2 with ⟨rfl, _⟩ | ⟨g, cap, cur, rfl, _, hg, _⟩
  · cases hq
  · obtain rfl : g = b := by simpa [Value.ownBlock] using hq
    have h' : W.heap[g]? = some (.cells vs.toArray t (0, 0)) := h
    rw [h'] at hg
    injection hg with hg
    injection hg with _ h2 _
    exact hne h2

/-- Uploads are as they were where a variable of another type is written. -/
theorem UpRow.setBox {W : World} {base b i : Nat} {t : TypeId} {vs : List Value} {v u : Value} {l : List UE} (h : UpRow W base v l) (hb : BoxN W b t vs) (h1 : t ≠ 30) (h2 : t ≠ 5) : UpRow (W.setCell ⟨b, i, none⟩ u) base v l := by
  refine h.grown (grownBy_setU W b i u) (fun q hq => ?_) (fun e he q hq => ?_)
  · injection hq with hq
    subst hq
    exact hb.noRow h.1 h1
  · injection hq with hq
    subst hq
    have := hb.noRow (h.2.1 e he).1 h2
    rwa [ownBlock_sU] at this

end Go.Proofs.YtogopmngbjkcjafDoor


