/- What the texts on tables share: rows of one's own, variables of two cells, what AddField and Resize answer. No program in it but its table of types. -/
import Derived.Test.YtcicboolbeognalTabOwn
import Derived.Test.YtcicboolbeognalTabFit
import Derived.Laws.Tables
import Derived.OneCell
namespace Go.Proofs.Ytcicboolbeognal
open Go.RowKit
set_option linter.unusedVariables false

theorem own_shape {w : World} {base size n : Nat} {e : TypeId} {v : Value} {xs : List Value} (h : w.ownsRow base e size v n xs) : ∃ a cap, v = .slice a n cap := by
  rcases h.2 with ⟨rfl, rfl⟩ | ⟨g, cap, cur, rfl, _⟩
  · exact ⟨_, _, rfl⟩
  · exact ⟨_, _, rfl⟩

theorem own_down {w : World} {base b' size n : Nat} {e : TypeId} {v : Value} {xs : List Value} (h : w.ownsRow base e size v n xs) (hb : b' ≤ base) : w.ownsRow b' e size v n xs := by
  refine ⟨h.1, ?_⟩
  rcases h.2 with h0 | ⟨g, cap, cur, he, hg, r⟩
  · exact .inl h0
  · exact .inr ⟨g, cap, cur, he, by omega, r⟩

/-- A variable of two cells. -/
theorem two_cells {w : World} {b : Nat} {x y : Value} {t : TypeId} (h : w.heap[b]? = some (.cells #[x, y] t (0, 0))) : w.cell? ⟨b, 0, none⟩ = some x ∧ w.cell? ⟨b, 1, none⟩ = some y ∧ w.frozen? ⟨b, 0, none⟩ = false ∧ w.frozen? ⟨b, 1, none⟩ = false := by
  refine ⟨?_, ?_, ?_, ?_⟩
  · rw [cell_of_row _ _ _ _ _ _ h]; rfl
  · rw [cell_of_row _ _ _ _ _ _ h]; rfl
  · simp [World.frozen?, h]
  · simp [World.frozen?, h]

theorem Flds.take {w : World} {a : Option Addr} {n : Nat} {xs : List Fld} (h : Flds w a n xs) (k : Nat) (hk : k ≤ n) : Flds w a k (xs.take k) := by
  obtain ⟨h1, h2, h3⟩ := h
  refine ⟨by rw [List.length_take]; omega, fun f hf => h2 f (List.mem_of_mem_take hf), ?_⟩
  rcases h3 with h0 | ⟨b, off, ha, hb, hc⟩
  · exact .inl (by omega)
  · refine .inr ⟨b, off, ha, hb, fun i hi => ?_⟩
    have hi' : i < xs.length := by rw [List.length_take] at hi; omega
    have := hc i hi'
    rw [List.getElem_take]
    exact this

theorem two_set1 {w : World} {b : Nat} {x y : Value} {t : TypeId} (h : w.heap[b]? = some (.cells #[x, y] t (0, 0))) (v : Value) : (w.setCell ⟨b, 1, none⟩ v).heap[b]? = some (.cells #[x, v] t (0, 0)) := by
  rw [setCell_eq_setRow w b 1 _ t (0, 0) _ h, setRow_heap w b _ _ t (0, 0) h]
  rfl

theorem two_set0 {w : World} {b : Nat} {x y : Value} {t : TypeId} (h : w.heap[b]? = some (.cells #[x, y] t (0, 0))) (v : Value) : (w.setCell ⟨b, 0, none⟩ v).heap[b]? = some (.cells #[v, y] t (0, 0)) := by
  rw [setCell_eq_setRow w b 0 _ t (0, 0) _ h, setRow_heap w b _ _ t (0, 0) h]
  rfl

theorem set_block_other (w : World) (b b' k : Nat) (v : Value) (h : b ≠ b') : (w.setCell ⟨b', k, none⟩ v).heap[b]? = w.heap[b]? := by
  simp [World.setCell, Array.getElem?_modify, Ne.symm h]

theorem own_cap {w : World} {base size n cap : Nat} {a : Option Addr} {e : TypeId} {xs : List Value} (h : w.ownsRow base e size (.slice a n cap) n xs) : n ≤ cap := by
  rcases h.2 with ⟨he, hn⟩ | ⟨g, cap', cur, he, _, _, hc, _⟩
  · omega
  · injection he with _ _ e3
    omega

theorem own_stays {w w' : World} {base size n : Nat} {v : Value} {e : TypeId} {xs : List Value} (h : w.ownsRow base e size v n xs) (hb : Below w.heap.size w w') : w'.ownsRow base e size v n xs := by
  refine ⟨h.1, ?_⟩
  rcases h.2 with h0 | ⟨g, cap, cur, he, hg, hh, r⟩
  · exact .inl h0
  · exact .inr ⟨g, cap, cur, he, hg, (hb.block g (Array.getElem?_eq_some_iff.1 hh).1).trans hh, r⟩

theorem own_some {w : World} {base size n cap : Nat} {a : Option Addr} {e : TypeId} {xs : List Value} (h : w.ownsRow base e size (.slice a n cap) n xs) (hn : 0 < n) : a ≠ none := by
  rcases h.2 with ⟨_, h0⟩ | ⟨g, cap', cur, he, _⟩
  · omega
  · injection he with e1 _ _
    rw [e1]
    simp

theorem kept_alloc {w : World} {b : Nat} {x : Obj} (h : w.heap[b]? = some x) (o : Obj) : (w.alloc o).heap[b]? = some x := by
  have hl := (Array.getElem?_eq_some_iff.1 h).1
  show (w.heap.push o)[b]? = _
  rw [Array.getElem?_push, if_neg (by omega)]
  exact h

/-- What AddField answers: the fields. -/
def AddAns (m : Int) (xs : List Fld) (f : Fld) (ys : List Fld) : Prop := (okT m xs = true ∧ ∃ k, FitN m.toNat (f :: xs) k ∧ ys = (f :: xs).take k) ∨ (okT m xs = false ∧ ys = xs)

theorem AddAns.one {m : Int} {xs : List Fld} {f : Fld} {ys zs : List Fld} (h : AddAns m xs f ys) (g : AddAns m xs f zs) : ys = zs := by
  rcases h with ⟨h1, k, hk, rfl⟩ | ⟨h1, rfl⟩ <;> rcases g with ⟨g1, j, hj, rfl⟩ | ⟨g1, rfl⟩
  · rw [hk.one hj]
  · rw [h1] at g1; cases g1
  · rw [h1] at g1; cases g1
  · rfl

/-- What Resize answers: the room and the fields. -/
def CutAns (m n : Int) (xs : List Fld) (m' : Int) (ys : List Fld) : Prop := ((okT m xs = true ∧ 0 ≤ n ∧ n ≤ 4096) ∧ m' = n ∧ ∃ k, FitN n.toNat xs k ∧ ys = xs.take k) ∨ (¬ (okT m xs = true ∧ 0 ≤ n ∧ n ≤ 4096) ∧ m' = m ∧ ys = xs)

theorem CutAns.one {m n : Int} {xs : List Fld} {m' m'' : Int} {ys zs : List Fld} (h : CutAns m n xs m' ys) (g : CutAns m n xs m'' zs) : m' = m'' ∧ ys = zs := by
  rcases h with ⟨h1, rfl, k, hk, rfl⟩ | ⟨h1, rfl, rfl⟩ <;> rcases g with ⟨g1, rfl, j, hj, rfl⟩ | ⟨g1, rfl, rfl⟩
  · rw [hk.one hj]; exact ⟨rfl, rfl⟩
  · exact absurd h1 g1
  · exact absurd g1 h1
  · exact ⟨rfl, rfl⟩

theorem okT_range {m : Int} {xs : List Fld} (h : okT m xs = true) : 0 ≤ m ∧ m ≤ 4096 := by
  unfold okT at h
  have := of_decide_eq_true h
  exact ⟨this.1, this.2.1⟩

theorem own_other' {w : World} {base n size : Nat} {e : TypeId} {v : Value} {xs : List Value} (h : w.ownsRow base e size v n xs) {p : Nat} {cs : Array Value} {t : TypeId} {fr : Nat × Nat} (hp : w.heap[p]? = some (.cells cs t fr)) (ht : t ≠ e) : v.ownBlock ≠ some p := by
  rcases h.2 with ⟨rfl, _⟩ | ⟨g, cap, cur, rfl, _, hg, _⟩
  · simp [Value.ownBlock]
  · intro e
    simp only [Value.ownBlock, Option.some.injEq] at e
    subst e
    rw [hg] at hp
    injection hp with hp
    injection hp with _ h2 _
    exact ht h2.symm

theorem OwnF.cut {w : World} {base n cap : Nat} {a : Option Addr} {xs : List Fld} (h : OwnF w base (.slice a n cap) n xs) (k : Nat) (hk : k ≤ n) : OwnF w base (.slice a k cap) k (xs.take k) := by
  by_cases he : k = n
  · subst he
    rw [List.take_of_length_le (by rw [h.len]; exact Nat.le_refl _)]
    exact h
  · exact h.take k hk (own_some h.1 (by omega))

/-- A variable of two cells. -/
def Box2 (W : World) (b : Nat) (t : TypeId) (x y : Value) : Prop := W.heap[b]? = some (.cells #[x, y] t (0, 0))

theorem Box2.lt {W : World} {b : Nat} {t : TypeId} {x y : Value} (h : Box2 W b t x y) : b < W.heap.size := (Array.getElem?_eq_some_iff.1 h).1

theorem Box2.stays {W W' : World} {b : Nat} {t : TypeId} {x y : Value} (h : Box2 W b t x y) (hb : Below W.heap.size W W') : Box2 W' b t x y := (hb.block b h.lt).trans h

theorem Box2.alloc {W : World} {b : Nat} {t : TypeId} {x y : Value} (h : Box2 W b t x y) (o : Obj) : Box2 (W.alloc o) b t x y := kept_alloc h o

theorem Box2.new (W : World) (t : TypeId) (x y : Value) : Box2 (W.alloc (.cells #[x, y] t)) W.heap.size t x y := heap_alloc_new W _

theorem Box2.cells {W : World} {b : Nat} {t : TypeId} {x y : Value} (h : Box2 W b t x y) : W.cell? ⟨b, 0, none⟩ = some x ∧ W.cell? ⟨b, 1, none⟩ = some y ∧ W.frozen? ⟨b, 0, none⟩ = false ∧ W.frozen? ⟨b, 1, none⟩ = false := two_cells h

theorem Box2.grown {W W' : World} {b : Nat} {t : TypeId} {x y : Value} {r : Option Nat} (h : Box2 W b t x y) (hg : W.grownBy W' r) (hr : r ≠ some b) : Box2 W' b t x y := (hg.block b h.lt (Ne.symm hr)).trans h

theorem OwnF.stays {W W' : World} {base n : Nat} {v : Value} {xs : List Fld} (h : OwnF W base v n xs) (hb : Below W.heap.size W W') : OwnF W' base v n xs := ⟨own_stays h.1 hb, h.2⟩

theorem OwnF.grown {W W' : World} {base n : Nat} {v : Value} {xs : List Fld} {r : Option Nat} (h : OwnF W base v n xs) (hg : W.grownBy W' r) (hr : v.ownBlock = none ∨ v.ownBlock ≠ r) : OwnF W' base v n xs := ⟨h.1.kept hg hr, h.2⟩

theorem OwnF.lt {W : World} {base n : Nat} {v : Value} {xs : List Fld} (h : OwnF W base v n xs) : ∀ k, v.ownBlock = some k → base ≤ k ∧ k < W.heap.size := h.1.lt

/-- The block of a slice's row. -/
theorem ownBlock_slice (a : Option Addr) (n cap : Nat) : (Value.slice a n cap).ownBlock = a.map (·.block) := by cases a <;> rfl

theorem AddAns.short {m : Int} {xs : List Fld} {f : Fld} {ys : List Fld} (h : AddAns m xs f ys) : ys.length ≤ xs.length + 1 := by
  rcases h with ⟨_, k, _, rfl⟩ | ⟨_, rfl⟩
  · rw [List.length_take]
    simp only [List.length_cons]
    omega
  · omega

theorem put_box {X Y : World} {b base n : Nat} {v : Value} {ys : List Fld} (hb : Below X.heap.size X Y) (hX : X.heap.size ≤ b) (hq : Box2 Y b 40 (.int .i64 0) (.slice none 0 0)) (hlt : b < base) (ho : OwnF Y base v n ys) (m : Int) :
    Below X.heap.size X ((Y.setCell ⟨b, 0, none⟩ (.int .i64 m)).setCell ⟨b, 1, none⟩ v) ∧ Box2 ((Y.setCell ⟨b, 0, none⟩ (.int .i64 m)).setCell ⟨b, 1, none⟩ v) b 40 (.int .i64 m) v ∧ OwnF ((Y.setCell ⟨b, 0, none⟩ (.int .i64 m)).setCell ⟨b, 1, none⟩ v) X.heap.size v n ys :=
  ⟨(hb.setCell (p := ⟨b, 0, none⟩) hX _).setCell (p := ⟨b, 1, none⟩) hX _, two_set1 (two_set0 hq _) _,
    own_down (ownsRow_setCell_below (ownsRow_setCell_below ho.1 (a := ⟨b, 0, none⟩) hlt _) (a := ⟨b, 1, none⟩) hlt _) (by omega), ho.2⟩

theorem put_new {X Y : World} {base n : Nat} {v : Value} {ys : List Fld} (hb : Below X.heap.size X Y) (hX : X.heap.size ≤ base) (ho : OwnF Y base v n ys) (m : Int) :
    Below X.heap.size X (Y.alloc (.cells #[.int .i64 m, v] 40)) ∧ Box2 (Y.alloc (.cells #[.int .i64 m, v] 40)) Y.heap.size 40 (.int .i64 m) v ∧ OwnF (Y.alloc (.cells #[.int .i64 m, v] 40)) X.heap.size v n ys :=
  ⟨hb.alloc hb.size _, Box2.new _ _ _ _, own_down (ho.stays ((Below.refl _ _).alloc (Nat.le_refl _) _)).1 hX, ho.2⟩

/-- What FieldAt answers. -/
def atAns (xs : List Fld) (i : Int) : Fld × Bool := if i ≤ 61 then firstAns i else if (i - 62).toNat < xs.length then (xs.getD (i - 62).toNat fnil, true) else (fnil, false)

end Go.Proofs.Ytcicboolbeognal
