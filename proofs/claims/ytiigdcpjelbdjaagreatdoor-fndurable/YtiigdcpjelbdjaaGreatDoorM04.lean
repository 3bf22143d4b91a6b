/- Variables of three and of four cells, written into. No program in it. A variable of any number of cells: no program in it. A cell that is written; no program in it. A row of uploads that another row comes of: some of its uploads, and ones without bytes. No statement of the program but its table of types. The small facts of Own, under the name that the other texts import. Rows of texts in memory: what they hold, rows that a call has made. No statement of the program but its table of types. A variable of two cells: no program in it. Rows of texts and the block that they lie in. No program in it but its table of types. -/
import Derived.Test.YtiigdcpjelbdjaaGreatDoorM03
import Derived.Test.YtiigdcpjelbdjaaGreatDoorM01
import Derived.Deep.QuietTactic
namespace Go.Proofs.YtiigdcpjelbdjaaGreatDoor
open Go.RowKit
set_option linter.unusedVariables false

theorem box4_set0 {W : World} {b : Nat} {t : TypeId} {x y z u : Value} (h : Box4 W b t x y z u) (v : Value) : Box4 (W.setCell ⟨b, 0, none⟩ v) b t v y z u := by
  show (W.setCell ⟨b, 0, none⟩ v).heap[b]? = _
  rw [setCell_eq_setRow W b 0 _ t (0, 0) _ h, setRow_heap W b _ _ t (0, 0) h]
  rfl

theorem box4_set1 {W : World} {b : Nat} {t : TypeId} {x y z u : Value} (h : Box4 W b t x y z u) (v : Value) : Box4 (W.setCell ⟨b, 1, none⟩ v) b t x v z u := by
  show (W.setCell ⟨b, 1, none⟩ v).heap[b]? = _
  rw [setCell_eq_setRow W b 1 _ t (0, 0) _ h, setRow_heap W b _ _ t (0, 0) h]
  rfl

theorem box4_set2 {W : World} {b : Nat} {t : TypeId} {x y z u : Value} (h : Box4 W b t x y z u) (v : Value) : Box4 (W.setCell ⟨b, 2, none⟩ v) b t x y v u := by
  show (W.setCell ⟨b, 2, none⟩ v).heap[b]? = _
  rw [setCell_eq_setRow W b 2 _ t (0, 0) _ h, setRow_heap W b _ _ t (0, 0) h]
  rfl

theorem box4_set3 {W : World} {b : Nat} {t : TypeId} {x y z u : Value} (h : Box4 W b t x y z u) (v : Value) : Box4 (W.setCell ⟨b, 3, none⟩ v) b t x y z v := by
  show (W.setCell ⟨b, 3, none⟩ v).heap[b]? = _
  rw [setCell_eq_setRow W b 3 _ t (0, 0) _ h, setRow_heap W b _ _ t (0, 0) h]
  rfl

theorem box3_set0 {W : World} {b : Nat} {t : TypeId} {x y z : Value} (h : Box3 W b t x y z) (v : Value) : Box3 (W.setCell ⟨b, 0, none⟩ v) b t v y z := by
  show (W.setCell ⟨b, 0, none⟩ v).heap[b]? = _
  rw [setCell_eq_setRow W b 0 _ t (0, 0) _ h, setRow_heap W b _ _ t (0, 0) h]
  rfl

theorem box3_set1 {W : World} {b : Nat} {t : TypeId} {x y z : Value} (h : Box3 W b t x y z) (v : Value) : Box3 (W.setCell ⟨b, 1, none⟩ v) b t x v z := by
  show (W.setCell ⟨b, 1, none⟩ v).heap[b]? = _
  rw [setCell_eq_setRow W b 1 _ t (0, 0) _ h, setRow_heap W b _ _ t (0, 0) h]
  rfl

theorem box3_set2 {W : World} {b : Nat} {t : TypeId} {x y z : Value} (h : Box3 W b t x y z) (v : Value) : Box3 (W.setCell ⟨b, 2, none⟩ v) b t x y v := by
  show (W.setCell ⟨b, 2, none⟩ v).heap[b]? = _
  rw [setCell_eq_setRow W b 2 _ t (0, 0) _ h, setRow_heap W b _ _ t (0, 0) h]
  rfl

theorem set_block_ne (w : World) (b b' k : Nat) (v : Value) (h : b ≠ b') : (w.setCell ⟨b', k, none⟩ v).heap[b]? = w.heap[b]? := by
  simp [World.setCell, Array.getElem?_modify, Ne.symm h]

theorem grownBy_set (W : World) (b k : Nat) (v : Value) : W.grownBy (W.setCell ⟨b, k, none⟩ v) (some b) :=
  ⟨rfl, rfl, rfl, by simp, fun i _ hne => set_block_ne W i b k v (fun e => hne (by rw [e]))⟩

/-- A variable of another block is as it was. -/
theorem box4_other {W : World} {b b' k : Nat} {t : TypeId} {x y z u v : Value} (h : Box4 W b t x y z u) (hne : b ≠ b') : Box4 (W.setCell ⟨b', k, none⟩ v) b t x y z u := (set_block_ne W b b' k v hne).trans h

theorem box3_other {W : World} {b b' k : Nat} {t : TypeId} {x y z v : Value} (h : Box3 W b t x y z) (hne : b ≠ b') : Box3 (W.setCell ⟨b', k, none⟩ v) b t x y z := (set_block_ne W b b' k v hne).trans h

/-- A row of the call's own is as it was where another block is written. -/
theorem owns_set {W : World} {base n cap b' k : Nat} {a : Option Addr} {zs : List Int} {v : Value} (h : Owns W base a n cap zs) (hne : a.map (·.block) ≠ some b') : Owns (W.setCell ⟨b', k, none⟩ v) base a n cap zs := by
  refine ⟨⟨h.1.1, ?_⟩, h.2⟩
  rcases h.1.2 with h0 | ⟨g, cap', cur, he, hb, hg, r⟩
  · exact .inl h0
  · injection he with e1 e2 e3
    subst e1
    refine .inr ⟨g, cap', cur, by rw [e3], hb, ?_, r⟩
    rw [set_block_ne W g b' k v (fun e => hne (by rw [← e]; rfl))]
    exact hg

end Go.Proofs.YtiigdcpjelbdjaaGreatDoor

namespace Go.Proofs.YtiigdcpjelbdjaaGreatDoor
open Go.RowKit
set_option linter.unusedVariables false

/-- The block holds a variable of these cells. -/
def BoxN (W : World) (b : Nat) (t : TypeId) (vs : List Value) : Prop := W.heap[b]? = some (.cells vs.toArray t (0, 0))

section
variable {W W' : World} {b : Nat} {t : TypeId} {vs : List Value}

theorem BoxN.lt (h : BoxN W b t vs) : b < W.heap.size := (Array.getElem?_eq_some_iff.1 h).1
theorem BoxN.stays (h : BoxN W b t vs) (hb : Below W.heap.size W W') : BoxN W' b t vs := (hb.block b h.lt).trans h
theorem BoxN.alloc (h : BoxN W b t vs) (o : Obj) : BoxN (W.alloc o) b t vs := h.stays ((Below.refl _ _).alloc (Nat.le_refl _) _)
theorem BoxN.new (W : World) (t : TypeId) (vs : List Value) : BoxN (W.alloc (.cells vs.toArray t)) W.heap.size t vs := heap_alloc_new W _

theorem BoxN.cell (h : BoxN W b t vs) (i : Nat) {v : Value} (hv : vs[i]? = some v) : W.cell? ⟨b, i, none⟩ = some v := by
  have h' : W.heap[b]? = some (.cells vs.toArray t (0, 0)) := h
  rw [cell_of_row _ _ _ _ _ _ h', ← hv]
  simp

theorem BoxN.frozen (h : BoxN W b t vs) (i : Nat) : W.frozen? ⟨b, i, none⟩ = false := by simp [World.frozen?, show W.heap[b]? = _ from h]
theorem BoxN.grown {r : Option Nat} (h : BoxN W b t vs) (hg : W.grownBy W' r) (hr : r ≠ some b) : BoxN W' b t vs := (hg.block b h.lt (Ne.symm hr)).trans h

theorem BoxN.set (h : BoxN W b t vs) (i : Nat) (v : Value) : BoxN (W.setCell ⟨b, i, none⟩ v) b t (vs.set i v) := by
  show (W.setCell ⟨b, i, none⟩ v).heap[b]? = _
  rw [setCell_eq_setRow W b i _ t (0, 0) _ h, setRow_heap W b _ _ t (0, 0) h]
  simp

theorem BoxN.other {b' k : Nat} (h : BoxN W b t vs) (hne : b ≠ b') (v : Value) : BoxN (W.setCell ⟨b', k, none⟩ v) b t vs := (set_block_ne W b b' k v hne).trans h
end

end Go.Proofs.YtiigdcpjelbdjaaGreatDoor

namespace Go.Proofs.YtiigdcpjelbdjaaGreatDoor
open Go.RowKit
set_option linter.unusedVariables false

theorem grownBy_setU (w : World) (b i : Nat) (v : Value) : w.grownBy (w.setCell ⟨b, i, none⟩ v) (some b) := ⟨rfl, rfl, rfl, by simp, fun k _ hk => set_block_ne w k b i v (fun e => hk (by rw [e]))⟩

theorem grown_cell {W W' : World} {q : Option Nat} {g i : Nat} (h : W.grownBy W' q) (hg : g < W.heap.size) (hn : some g ≠ q) : W'.cell? ⟨g, i, none⟩ = W.cell? ⟨g, i, none⟩ := by simp only [World.cell?]; rw [h.block g hg hn]
theorem grown_frozen {W W' : World} {q : Option Nat} {g i : Nat} (h : W.grownBy W' q) (hg : g < W.heap.size) (hn : some g ≠ q) : W'.frozen? ⟨g, i, none⟩ = W.frozen? ⟨g, i, none⟩ := by simp only [World.frozen?]; rw [h.block g hg hn]

end Go.Proofs.YtiigdcpjelbdjaaGreatDoor

namespace Go.Proofs.YtiigdcpjelbdjaaGreatDoor
open Go.RowKit
set_option linter.unusedVariables false

theorem owns_nil (W : World) (base : Nat) : Owns W base none 0 0 [] := ⟨⟨rfl, .inl ⟨rfl, rfl⟩⟩, by simp⟩

/-- Another row of the same uploads, and of ones without bytes. -/
theorem UpRow.remade {W W' : World} {base : Nat} {v v' : Value} {l l' : List UE} (h : UpRow W base v l) (ho : W'.ownsRow base 42 4 v' l'.length (ueCells l')) (hg : W.grownBy W' v.ownBlock) (hin : ∀ e ∈ l', e ∈ l ∨ (e.a = none ∧ e.n = 0 ∧ e.c = 0 ∧ e.u.zs = [])) (hp : l'.Pairwise uapart) : UpRow W' base v' l' := by
  refine ⟨ho, fun e he => ?_, hp⟩
  rcases hin e he with h1 | ⟨h1, h2, h3, h4⟩
  · exact (h.2.1 e h1).grown hg (fun q hq => h.rowApart (h.2.1 e h1) q hq)
  · rw [h1, h2, h3, h4]
    exact owns_nil _ _

theorem uapart_none {e x : UE} (h : x.a = none) : uapart e x ∧ uapart x e := ⟨fun q _ => by rw [h]; simp, fun q hq => by rw [h] at hq; simp at hq⟩

theorem upair_ins {l : List UE} {x : UE} (k : Nat) (h : l.Pairwise uapart) (hx : x.a = none) : (l.take k ++ [x] ++ l.drop k).Pairwise uapart := by
  have h2 := h
  rw [← List.take_append_drop k l, List.pairwise_append] at h2
  rw [List.append_assoc, List.pairwise_append]
  refine ⟨h2.1, ?_, fun y hy z hz => ?_⟩
  · rw [List.singleton_append, List.pairwise_cons]
    exact ⟨fun z _ => (uapart_none hx).2, h2.2.1⟩
  · rw [List.singleton_append] at hz
    rcases List.mem_cons.1 hz with rfl | hz
    · exact (uapart_none hx).1
    · exact h2.2.2 y hy z hz

/-- A row of uploads is no variable of another type. -/
theorem BoxN.noRow {W : World} {b base n size : Nat} {t e : TypeId} {vs xs : List Value} {v : Value} (h : BoxN W b t vs) (ho : W.ownsRow base e size v n xs) (hne : t ≠ e) : v.ownBlock ≠ some b := by
  intro hq
  rcases ho.2 with ⟨rfl, _⟩ | ⟨g, cap, cur, rfl, _, hg, _⟩
  · cases hq
  · obtain rfl : g = b := by simpa [Value.ownBlock] using hq
    have h' : W.heap[g]? = some (.cells vs.toArray t (0, 0)) := h
    rw [h'] at hg
    injection hg with hg
    injection hg with _ h2 _
    exact hne h2

/-- Uploads are as they were where a variable of another type is written. -/
theorem UpRow.setBox {W : World} {base b i : Nat} {t : TypeId} {vs : List Value} {v u : Value} {l : List UE} (h : UpRow W base v l) (hb : BoxN W b t vs) (h1 : t ≠ 42) (h2 : t ≠ 5) : UpRow (W.setCell ⟨b, i, none⟩ u) base v l := by
  refine h.grown (grownBy_setU W b i u) (fun q hq => ?_) (fun e he q hq => ?_)
  · injection hq with hq
    subst hq
    exact hb.noRow h.1 h1
  · injection hq with hq
    subst hq
    have := hb.noRow (h.2.1 e he).1 h2
    rwa [ownBlock_sU] at this

end Go.Proofs.YtiigdcpjelbdjaaGreatDoor



namespace Go.Proofs.YtiigdcpjelbdjaaGreatDoor
open Go.RowKit
set_option linter.unusedVariables false

/-- The cells of a row of texts. -/
def scells (l : List ByteArray) : List Value := l.map Value.string

theorem scells_len (l : List ByteArray) : (scells l).length = l.length := List.length_map ..

theorem scells_at (l : List ByteArray) (i : Nat) (hi : i < l.length) : (scells l)[i]? = some (.string (l[i])) := by
  simp [scells, hi]

theorem scells_append (l r : List ByteArray) : scells (l ++ r) = scells l ++ scells r := by simp [scells]

theorem scells_set (l : List ByteArray) (x : ByteArray) (k : Nat) : (scells l).set k (.string x) = scells (l.set k x) := by simp [scells, List.map_set]

theorem scells_one (l : List ByteArray) : ∀ u ∈ scells l, u.oneCell' = true := by
  intro u hu
  simp only [scells, List.mem_map] at hu
  obtain ⟨x, _, rfl⟩ := hu
  rfl

/-- The bytes of texts. -/
def strBytes (l : List ByteArray) : Nat := (l.map ByteArray.size).sum

theorem strBytes_step (l : List ByteArray) (k : Nat) (x : ByteArray) (h : l[k]? = some x) : strBytes (l.take (k + 1)) = strBytes (l.take k) + x.size := by
  rw [List.take_add_one, h]
  simp [strBytes]

theorem strBytes_mem (l : List ByteArray) (x : ByteArray) (h : x ∈ l) : x.size ≤ strBytes l := by
  induction l with
  | nil => cases h
  | cons y l ih =>
    have e : strBytes (y :: l) = y.size + strBytes l := by simp [strBytes]
    rcases List.mem_cons.1 h with rfl | h
    · omega
    · have := ih h
      omega

/-- The slice (a, n) holds the texts l in the world w. -/
def Strs (w : World) (a : Option Addr) (n : Nat) (l : List ByteArray) : Prop :=
  l.length = n ∧ (∀ x ∈ l, x.size ≤ maxLen) ∧
  (n = 0 ∨ ∃ b off, a = some ⟨b, off, none⟩ ∧ b < w.heap.size ∧ ∀ i (hi : i < l.length), w.cell? ⟨b, off + i, none⟩ = some (.string (l[i])))

theorem Strs.below {w w' : World} {a : Option Addr} {n : Nat} {l : List ByteArray} (h : Strs w a n l) (hb : Below w.heap.size w w') : Strs w' a n l := by
  obtain ⟨h1, h2, h3⟩ := h
  refine ⟨h1, h2, ?_⟩
  rcases h3 with h0 | ⟨b, off, ha, hlt, hc⟩
  · exact .inl h0
  · exact .inr ⟨b, off, ha, Nat.lt_of_lt_of_le hlt hb.size, fun i hi => (hb.cell (p := ⟨b, off + i, none⟩) hlt).trans (hc i hi)⟩

/-- The cell at one index. -/
theorem Strs.at {w : World} {a : Option Addr} {n : Nat} {l : List ByteArray} (h : Strs w a n l) {k : Nat} (hk : k < n) : ∃ b off x, a = some ⟨b, off, none⟩ ∧ b < w.heap.size ∧ l[k]? = some x ∧ w.cell? ⟨b, off + k, none⟩ = some (.string x) := by
  obtain ⟨h1, h2, h3⟩ := h
  rcases h3 with h0 | ⟨b, off, ha, hlt, hc⟩
  · omega
  · have hk' : k < l.length := by omega
    exact ⟨b, off, l[k], ha, hlt, List.getElem?_eq_getElem hk', hc k hk'⟩

theorem Strs.cells {w : World} {a : Option Addr} {n : Nat} {l : List ByteArray} (h : Strs w a n l) : ∀ ad, a = some ad → ∀ j u, (scells l)[j]? = some u → w.cell? (ad.add j) = some u := by
  intro ad ha j u hj
  have hjl : j < l.length := by
    rw [← scells_len]
    exact (List.getElem?_eq_some_iff.1 hj).1
  rcases h.2.2 with h0 | ⟨b, off, e, hb, hc⟩
  · have := h.1
    omega
  · rw [ha] at e
    injection e with e
    subst e
    have hadd : (⟨b, off, none⟩ : Addr).add j = ⟨b, off + j, none⟩ := by unfold Addr.add; split <;> simp_all
    rw [hadd, hc j hjl, ← scells_at l j hjl, hj]

theorem Strs.none_nil {w : World} {a : Option Addr} {n : Nat} {l : List ByteArray} (h : Strs w a n l) (ha : a = none) : n = 0 := by
  rcases h.2.2 with h0 | ⟨b, off, e, _⟩
  · exact h0
  · rw [ha] at e
    cases e

theorem Strs.nil (w : World) (a : Option Addr) : Strs w a 0 [] := ⟨rfl, by simp, .inl rfl⟩

/-- A slice value that owns these texts, in a block from base on. -/
def OwnSt (w : World) (base : Nat) (v : Value) (n : Nat) (l : List ByteArray) : Prop := w.ownsRow base 9 1 v n (scells l) ∧ ∀ x ∈ l, x.size ≤ maxLen

theorem OwnSt.len {w : World} {base n : Nat} {v : Value} {l : List ByteArray} (h : OwnSt w base v n l) : l.length = n := by
  have := h.1.1
  rw [scells_len] at this
  omega

theorem OwnSt.shape {w : World} {base n : Nat} {v : Value} {l : List ByteArray} (h : OwnSt w base v n l) : ∃ a cap, v = .slice a n cap := by
  rcases h.1.2 with ⟨rfl, rfl⟩ | ⟨g, cap, cur, rfl, _⟩
  · exact ⟨_, _, rfl⟩
  · exact ⟨_, _, rfl⟩

theorem OwnSt.strs {w : World} {base n cap : Nat} {a : Option Addr} {l : List ByteArray} (h : OwnSt w base (.slice a n cap) n l) : Strs w a n l := by
  have hl := h.len
  refine ⟨hl, h.2, ?_⟩
  rcases h.1.2 with ⟨_, hn⟩ | ⟨g, cap', cur, he, hb, hg, hn, hm, hc, ht⟩
  · exact .inl hn
  · injection he with e1 e2 e3
    subst e1
    refine .inr ⟨g, 0, rfl, (Array.getElem?_eq_some_iff.1 hg).1, fun i hi => ?_⟩
    have hi' : i < n := by omega
    rw [Nat.zero_add, cell_of_row w g i cur _ (0, 0) hg, ← scells_at l i hi, ← ht, List.getElem?_take, if_pos (by omega), Array.getElem?_toList]

theorem OwnSt.below {w w' : World} {base n : Nat} {v : Value} {l : List ByteArray} (h : OwnSt w base v n l) (hb : Below w.heap.size w w') : OwnSt w' base v n l := by
  refine ⟨⟨h.1.1, ?_⟩, h.2⟩
  rcases h.1.2 with h0 | ⟨g, cap, cur, he, hg, hh, r⟩
  · exact .inl h0
  · exact .inr ⟨g, cap, cur, he, hg, (hb.block g (Array.getElem?_eq_some_iff.1 hh).1).trans hh, r⟩

theorem OwnSt.grown {w w' : World} {base n : Nat} {v : Value} {l : List ByteArray} {r : Option Nat} (h : OwnSt w base v n l) (hg : w.grownBy w' r) (hr : ∀ q, r = some q → ∀ p m c, v = .slice (some p) m c → p.block ≠ q) : OwnSt w' base v n l := by
  refine ⟨⟨h.1.1, ?_⟩, h.2⟩
  rcases h.1.2 with h0 | ⟨g, cap, cur, he, hgb, hh, rest⟩
  · exact .inl h0
  · refine .inr ⟨g, cap, cur, he, hgb, (hg.block g (Array.getElem?_eq_some_iff.1 hh).1 ?_).trans hh, rest⟩
    intro e
    exact hr g e.symm _ _ _ he rfl

theorem info_string : (Tryz.prog.info? 9).map (fun i => (i.zero, i.size, i.bytes)) = some (some (.string ⟨#[]⟩), 1, 16) := by kernel_rfl

/-- A row that is copied up to k. -/
def srowTo (l : List ByteArray) (len k : Nat) : List ByteArray := l.take k ++ List.replicate (len - k) ⟨#[]⟩

theorem srowTo_step (l : List ByteArray) (len k : Nat) (x : ByteArray) (h : l[k]? = some x) (hk : k < len) : (srowTo l len k).set k x = srowTo l len (k + 1) := by
  have hl : k < l.length := (List.getElem?_eq_some_iff.1 h).1
  have ht : (l.take k).length = k := by simp; omega
  rw [srowTo, srowTo, List.set_append_right k _ (by omega), ht, Nat.sub_self, List.take_add_one, h, show len - k = (len - (k + 1)) + 1 by omega, List.replicate_succ]
  simp

theorem srowTo_len (l : List ByteArray) (len k : Nat) (h : l.length = len) (hk : k ≤ len) : (srowTo l len k).length = len := by
  simp [srowTo]; omega

end Go.Proofs.YtiigdcpjelbdjaaGreatDoor

namespace Go.Proofs.YtiigdcpjelbdjaaGreatDoor
open Go.RowKit
set_option linter.unusedVariables false

/-- The block holds a variable of two cells. -/
def Box2R (W : World) (b : Nat) (t : TypeId) (x y : Value) : Prop := W.heap[b]? = some (.cells #[x, y] t (0, 0))

theorem Box2R.lt {W : World} {b : Nat} {t : TypeId} {x y : Value} (h : Box2R W b t x y) : b < W.heap.size := (Array.getElem?_eq_some_iff.1 h).1

theorem Box2R.stays {W W' : World} {b : Nat} {t : TypeId} {x y : Value} (h : Box2R W b t x y) (hb : Below W.heap.size W W') : Box2R W' b t x y := (hb.block b h.lt).trans h

theorem Box2R.alloc {W : World} {b : Nat} {t : TypeId} {x y : Value} (h : Box2R W b t x y) (o : Obj) : Box2R (W.alloc o) b t x y := h.stays ((Below.refl _ _).alloc (Nat.le_refl _) _)

theorem Box2R.new (W : World) (t : TypeId) (x y : Value) : Box2R (W.alloc (.cells #[x, y] t)) W.heap.size t x y := heap_alloc_new W _

theorem Box2R.cells {W : World} {b : Nat} {t : TypeId} {x y : Value} (h : Box2R W b t x y) : W.cell? ⟨b, 0, none⟩ = some x ∧ W.cell? ⟨b, 1, none⟩ = some y := by
  have h' : W.heap[b]? = some (.cells #[x, y] t (0, 0)) := h
  exact ⟨by rw [cell_of_row _ _ _ _ _ _ h']; rfl, by rw [cell_of_row _ _ _ _ _ _ h']; rfl⟩

theorem Box2R.frozen {W : World} {b : Nat} {t : TypeId} {x y : Value} (h : Box2R W b t x y) (i : Nat) : W.frozen? ⟨b, i, none⟩ = false := by simp [World.frozen?, show W.heap[b]? = _ from h]

theorem Box2R.grown {W W' : World} {b : Nat} {t : TypeId} {x y : Value} {r : Option Nat} (h : Box2R W b t x y) (hg : W.grownBy W' r) (hr : r ≠ some b) : Box2R W' b t x y := (hg.block b h.lt (Ne.symm hr)).trans h

theorem Box2R.set0 {W : World} {b : Nat} {t : TypeId} {x y : Value} (h : Box2R W b t x y) (v : Value) : Box2R (W.setCell ⟨b, 0, none⟩ v) b t v y := by
  show (W.setCell ⟨b, 0, none⟩ v).heap[b]? = _
  rw [setCell_eq_setRow W b 0 _ t (0, 0) _ h, setRow_heap W b _ _ t (0, 0) h]
  rfl

theorem Box2R.set1 {W : World} {b : Nat} {t : TypeId} {x y : Value} (h : Box2R W b t x y) (v : Value) : Box2R (W.setCell ⟨b, 1, none⟩ v) b t x v := by
  show (W.setCell ⟨b, 1, none⟩ v).heap[b]? = _
  rw [setCell_eq_setRow W b 1 _ t (0, 0) _ h, setRow_heap W b _ _ t (0, 0) h]
  rfl

theorem Box2R.other {W : World} {b b' k : Nat} {t : TypeId} {x y : Value} (h : Box2R W b t x y) (hne : b ≠ b') (v : Value) : Box2R (W.setCell ⟨b', k, none⟩ v) b t x y := (set_block_ne W b b' k v hne).trans h

end Go.Proofs.YtiigdcpjelbdjaaGreatDoor

namespace Go.Proofs.YtiigdcpjelbdjaaGreatDoor
open Go.RowKit
set_option linter.unusedVariables false

/-- What lies behind a slice value, if it has a block. -/
def blkOf : Value → Option Nat
  | .slice (some p) _ _ => some p.block
  | _ => none

theorem OwnSt.low {w : World} {base lo n : Nat} {v : Value} {l : List ByteArray} (h : OwnSt w base v n l) (hl : lo ≤ base) : OwnSt w lo v n l := by
  refine ⟨⟨h.1.1, ?_⟩, h.2⟩
  rcases h.1.2 with h0 | ⟨g, cap, cur, he, hg, r⟩
  · exact .inl h0
  · exact .inr ⟨g, cap, cur, he, Nat.le_trans hl hg, r⟩

theorem OwnSt.lt {w : World} {base n : Nat} {v : Value} {l : List ByteArray} (h : OwnSt w base v n l) : ∀ q, blkOf v = some q → base ≤ q ∧ q < w.heap.size := by
  intro q hq
  rcases h.1.2 with ⟨rfl, _⟩ | ⟨g, cap, cur, rfl, hg, hh, _⟩
  · simp [blkOf] at hq
  · obtain rfl : g = q := by simpa [blkOf] using hq
    exact ⟨hg, (Array.getElem?_eq_some_iff.1 hh).1⟩

theorem OwnSt.kept {w w' : World} {base n : Nat} {v : Value} {l : List ByteArray} {r : Option Nat} (h : OwnSt w base v n l) (hg : w.grownBy w' r) (hr : ∀ q, r = some q → blkOf v ≠ some q) : OwnSt w' base v n l := by
  refine h.grown hg fun q hq p m c hv hne => hr q hq ?_
  rw [hv, ← hne]
  rfl

theorem OwnSt.setCell {w : World} {base n : Nat} {v : Value} {l : List ByteArray} (h : OwnSt w base v n l) {b k : Nat} (hb : blkOf v ≠ some b) (u : Value) : OwnSt (w.setCell ⟨b, k, none⟩ u) base v n l := by
  refine ⟨⟨h.1.1, ?_⟩, h.2⟩
  rcases h.1.2 with h0 | ⟨g, cap, cur, rfl, hg, hh, r⟩
  · exact .inl h0
  · exact .inr ⟨g, cap, cur, rfl, hg, (set_block_ne w g b k u (fun e => hb (by rw [blkOf, e]))).trans hh, r⟩

end Go.Proofs.YtiigdcpjelbdjaaGreatDoor
