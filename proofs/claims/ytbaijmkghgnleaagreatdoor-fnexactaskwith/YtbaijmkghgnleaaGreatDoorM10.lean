/- Rows of fields that a call has made. No statement of the program but its table of types. What the texts on tables share: rows of one's own, variables of two cells, what AddField and Resize answer. No program in it but its table of types. What FindField answers. No program in it. The forms of a field in a block: which one is taken, and its bytes. -/
import Derived.Test.YtbaijmkghgnleaaGreatDoorM09
import Derived.Test.YtbaijmkghgnleaaGreatDoorM09
import Derived.Laws.Tables
import Derived.OneCell
import Derived.Lib.Strings
namespace Go.Proofs.YtbaijmkghgnleaaGreatDoor
open Go.RowKit
set_option linter.unusedVariables false

/-- A slice value that owns these fields, in a block from base on. -/
def OwnF (w : World) (base : Nat) (v : Value) (n : Nat) (xs : List Fld) : Prop := w.ownsRow base 69 2 v n (fieldCells xs) ∧ ∀ f ∈ xs, f.1.size ≤ maxLen ∧ f.2.size ≤ maxLen

theorem OwnF.len {w : World} {base n : Nat} {v : Value} {xs : List Fld} (h : OwnF w base v n xs) : xs.length = n := by
  have := h.1.1
  rw [fieldCells_len] at this
  omega

theorem OwnF.shape {w : World} {base n : Nat} {v : Value} {xs : List Fld} (h : OwnF w base v n xs) : ∃ a cap, v = .slice a n cap := by
  rcases h.1.2 with ⟨rfl, rfl⟩ | ⟨g, cap, cur, rfl, _⟩
  · exact ⟨_, _, rfl⟩
  · exact ⟨_, _, rfl⟩

theorem OwnF.flds {w : World} {base n cap : Nat} {a : Option Addr} {xs : List Fld} (h : OwnF w base (.slice a n cap) n xs) : Flds w a n xs := by
  have hl := h.len
  refine ⟨hl, h.2, ?_⟩
  rcases h.1.2 with ⟨_, hn⟩ | ⟨g, cap', cur, he, hb, hg, hn, hm, hc, ht⟩
  · exact .inl hn
  · injection he with e1 e2 e3
    subst e1
    refine .inr ⟨g, 0, rfl, (Array.getElem?_eq_some_iff.1 hg).1, fun i hi => ?_⟩
    have hi' : i < n := by omega
    have hget : ∀ j, j < n * 2 → w.cell? ⟨g, j, none⟩ = (fieldCells xs)[j]? := by
      intro j hj
      rw [cell_of_row w g j cur _ (0, 0) hg, ← ht, List.getElem?_take, if_pos hj, Array.getElem?_toList]
    have := fieldCells_at xs i hi
    rw [Nat.mul_comm 2 i] at this
    rw [Nat.zero_add, hget (i * 2) (by omega), hget (i * 2 + 1) (by omega)]
    exact this

theorem Flds.cells {w : World} {a : Option Addr} {n : Nat} {xs : List Fld} (h : Flds w a n xs) : ∀ ad, a = some ad → ∀ j u, (fieldCells xs)[j]? = some u → w.cell? (ad.add j) = some u := by
  intro ad ha j u hj
  have hjl : j < 2 * xs.length := by
    rw [← fieldCells_len]
    exact (List.getElem?_eq_some_iff.1 hj).1
  rcases h.2.2 with h0 | ⟨b, off, e, hb, hc⟩
  · have := h.1
    omega
  · rw [ha] at e
    injection e with e
    subst e
    have hadd : (⟨b, off, none⟩ : Addr).add j = ⟨b, off + j, none⟩ := by unfold Addr.add; split <;> simp_all
    rw [hadd]
    have hi : j / 2 < xs.length := by omega
    have h1 := hc (j / 2) hi
    have h2 := fieldCells_at xs (j / 2) hi
    rcases Nat.mod_two_eq_zero_or_one j with hm | hm
    · have e1 : off + j = off + j / 2 * 2 := by omega
      have e2 : j = 2 * (j / 2) := by omega
      rw [e1, h1.1, ← h2.1, ← e2, hj]
    · have e1 : off + j = off + j / 2 * 2 + 1 := by omega
      have e2 : j = 2 * (j / 2) + 1 := by omega
      rw [e1, h1.2, ← h2.2, ← e2, hj]

theorem Flds.none_nil {w : World} {a : Option Addr} {n : Nat} {xs : List Fld} (h : Flds w a n xs) (ha : a = none) : n = 0 := by
  rcases h.2.2 with h0 | ⟨b, off, e, _⟩
  · exact h0
  · rw [ha] at e
    cases e

theorem fieldCells_one (xs : List Fld) : ∀ u ∈ fieldCells xs, u.oneCell' = true := by
  intro u hu
  simp only [fieldCells, List.mem_flatMap] at hu
  obtain ⟨f, _, hf⟩ := hu
  simp at hf
  rcases hf with rfl | rfl <;> rfl

theorem fieldCells_append (xs ys : List Fld) : fieldCells (xs ++ ys) = fieldCells xs ++ fieldCells ys := by simp [fieldCells]

theorem fieldCells_take (xs : List Fld) : ∀ k, fieldCells (xs.take k) = (fieldCells xs).take (k * 2) := by
  induction xs with
  | nil => intro k; simp [fieldCells]
  | cons f xs ih =>
    intro k
    cases k with
    | zero => simp [fieldCells]
    | succ k =>
      have e : fieldCells (f :: xs) = .string f.1 :: .string f.2 :: fieldCells xs := rfl
      rw [List.take_succ_cons, e, show (k + 1) * 2 = k * 2 + 1 + 1 by omega, List.take_succ_cons, List.take_succ_cons, ← ih k]
      rfl

/-- A row of one's own that is cut behind its first k fields. -/
theorem OwnF.take {w : World} {base n cap : Nat} {a : Option Addr} {xs : List Fld} (h : OwnF w base (.slice a n cap) n xs) (k : Nat) (hk : k ≤ n) (ha : a ≠ none) : OwnF w base (.slice a k cap) k (xs.take k) := by
  have hl := h.len
  refine ⟨⟨?_, ?_⟩, fun f hf => h.2 f (List.mem_of_mem_take hf)⟩
  · rw [fieldCells_len, List.length_take]
    omega
  · rcases h.1.2 with ⟨he, _⟩ | ⟨g, cap', cur, he, hb, hg, hn, hm, hc, ht⟩
    · injection he with e1 _ _
      exact absurd e1 ha
    · injection he with e1 e2 e3
      subst e1 e3
      refine .inr ⟨g, cap, cur, rfl, hb, hg, by omega, hm, hc, ?_⟩
      rw [fieldCells_take, ← ht, List.take_take]
      congr 1
      omega

end Go.Proofs.YtbaijmkghgnleaaGreatDoor

namespace Go.Proofs.YtbaijmkghgnleaaGreatDoor
open Go.RowKit
set_option linter.unusedVariables false

theorem own_shape {w : World} {base size n : Nat} {e : TypeId} {v : Value} {xs : List Value} (h : w.ownsRow base e size v n xs) : ∃ a cap, v = .slice a n cap := by
  rcases h.2 with ⟨rfl, rfl⟩ | ⟨g, cap, cur, rfl, _⟩
  · exact ⟨_, _, rfl⟩
  · exact ⟨_, _, rfl⟩

theorem own_down {w : World} {base b' size n : Nat} {e : TypeId} {v : Value} {xs : List Value} (h : w.ownsRow base e size v n xs) (hb : b' ≤ base) : w.ownsRow b' e size v n xs := by
  refine ⟨h.1, ?_⟩
  rcases h.2 with h0 | ⟨g, cap, cur, he, hg, r⟩
  · exact .inl h0
  · exact .inr ⟨g, cap, cur, he, by omega, r⟩

/-- A variable of two cells. -/
theorem two_cells {w : World} {b : Nat} {x y : Value} {t : TypeId} (h : w.heap[b]? = some (.cells #[x, y] t (0, 0))) : w.cell? ⟨b, 0, none⟩ = some x ∧ w.cell? ⟨b, 1, none⟩ = some y ∧ w.frozen? ⟨b, 0, none⟩ = false ∧ w.frozen? ⟨b, 1, none⟩ = false := by
  refine ⟨?_, ?_, ?_, ?_⟩
  · rw [cell_of_row _ _ _ _ _ _ h]; rfl
  · rw [cell_of_row _ _ _ _ _ _ h]; rfl
  · simp [World.frozen?, h]
  · simp [World.frozen?, h]

theorem Flds.take {w : World} {a : Option Addr} {n : Nat} {xs : List Fld} (h : Flds w a n xs) (k : Nat) (hk : k ≤ n) : Flds w a k (xs.take k) := by
  obtain ⟨h1, h2, h3⟩ := h
  refine ⟨by rw [List.length_take]; omega, fun f hf => h2 f (List.mem_of_mem_take hf), ?_⟩
  rcases h3 with h0 | ⟨b, off, ha, hb, hc⟩
  · exact .inl (by omega)
  · refine .inr ⟨b, off, ha, hb, fun i hi => ?_⟩
    have hi' : i < xs.length := by rw [List.length_take] at hi; omega
    have := hc i hi'
    rw [List.getElem_take]
    exact this

theorem two_set1 {w : World} {b : Nat} {x y : Value} {t : TypeId} (h : w.heap[b]? = some (.cells #[x, y] t (0, 0))) (v : Value) : (w.setCell ⟨b, 1, none⟩ v).heap[b]? = some (.cells #[x, v] t (0, 0)) := by
  rw [setCell_eq_setRow w b 1 _ t (0, 0) _ h, setRow_heap w b _ _ t (0, 0) h]
  rfl

theorem two_set0 {w : World} {b : Nat} {x y : Value} {t : TypeId} (h : w.heap[b]? = some (.cells #[x, y] t (0, 0))) (v : Value) : (w.setCell ⟨b, 0, none⟩ v).heap[b]? = some (.cells #[v, y] t (0, 0)) := by
  rw [setCell_eq_setRow w b 0 _ t (0, 0) _ h, setRow_heap w b _ _ t (0, 0) h]
  rfl

theorem set_block_other (w : World) (b b' k : Nat) (v : Value) (h : b ≠ b') : (w.setCell ⟨b', k, none⟩ v).heap[b]? = w.heap[b]? := by
  simp [World.setCell, Array.getElem?_modify, Ne.symm h]

theorem own_cap {w : World} {base size n cap : Nat} {a : Option Addr} {e : TypeId} {xs : List Value} (h : w.ownsRow base e size (.slice a n cap) n xs) : n ≤ cap := by
  rcases h.2 with ⟨he, hn⟩ | ⟨g, cap', cur, he, _, _, hc, _⟩
  · omega
  · injection he with _ _ e3
    omega

theorem own_stays {w w' : World} {base size n : Nat} {v : Value} {e : TypeId} {xs : List Value} (h : w.ownsRow base e size v n xs) (hb : Below w.heap.size w w') : w'.ownsRow base e size v n xs := by
  refine ⟨h.1, ?_⟩
  rcases h.2 with h0 | ⟨g, cap, cur, he, hg, hh, r⟩
  · exact .inl h0
  · exact .inr ⟨g, cap, cur, he, hg, (hb.block g (Array.getElem?_eq_some_iff.1 hh).1).trans hh, r⟩

theorem own_some {w : World} {base size n cap : Nat} {a : Option Addr} {e : TypeId} {xs : List Value} (h : w.ownsRow base e size (.slice a n cap) n xs) (hn : 0 < n) : a ≠ none := by
  rcases h.2 with ⟨_, h0⟩ | ⟨g, cap', cur, he, _⟩
  · omega
  · injection he with e1 _ _
    rw [e1]
    simp

theorem kept_alloc {w : World} {b : Nat} {x : Obj} (h : w.heap[b]? = some x) (o : Obj) : (w.alloc o).heap[b]? = some x := by
  have hl := (Array.getElem?_eq_some_iff.1 h).1
  show (w.heap.push o)[b]? = _
  rw [Array.getElem?_push, if_neg (by omega)]
  exact h

/-- What AddField answers: the fields. -/
def AddAns (m : Int) (xs : List Fld) (f : Fld) (ys : List Fld) : Prop := (okT m xs = true ∧ ∃ k, FitN m.toNat (f :: xs) k ∧ ys = (f :: xs).take k) ∨ (okT m xs = false ∧ ys = xs)

theorem AddAns.one {m : Int} {xs : List Fld} {f : Fld} {ys zs : List Fld} (h : AddAns m xs f ys) (g : AddAns m xs f zs) : ys = zs := by
  rcases h with ⟨h1, k, hk, rfl⟩ | ⟨h1, rfl⟩ <;> rcases g with ⟨g1, j, hj, rfl⟩ | ⟨g1, rfl⟩
  · rw [hk.one hj]
  · rw [h1] at g1; cases g1
  · rw [h1] at g1; cases g1
  · rfl

/-- What Resize answers: the room and the fields. -/
def CutAns (m n : Int) (xs : List Fld) (m' : Int) (ys : List Fld) : Prop := ((okT m xs = true ∧ 0 ≤ n ∧ n ≤ 4096) ∧ m' = n ∧ ∃ k, FitN n.toNat xs k ∧ ys = xs.take k) ∨ (¬ (okT m xs = true ∧ 0 ≤ n ∧ n ≤ 4096) ∧ m' = m ∧ ys = xs)

theorem CutAns.one {m n : Int} {xs : List Fld} {m' m'' : Int} {ys zs : List Fld} (h : CutAns m n xs m' ys) (g : CutAns m n xs m'' zs) : m' = m'' ∧ ys = zs := by
  rcases h with ⟨h1, rfl, k, hk, rfl⟩ | ⟨h1, rfl, rfl⟩ <;> rcases g with ⟨g1, rfl, j, hj, rfl⟩ | ⟨g1, rfl, rfl⟩
  · rw [hk.one hj]; exact ⟨rfl, rfl⟩
  · exact absurd h1 g1
  · exact absurd g1 h1
  · exact ⟨rfl, rfl⟩

theorem okT_range {m : Int} {xs : List Fld} (h : okT m xs = true) : 0 ≤ m ∧ m ≤ 4096 := by
  unfold okT at h
  have := of_decide_eq_true h
  exact ⟨this.1, this.2.1⟩

theorem own_other' {w : World} {base n size : Nat} {e : TypeId} {v : Value} {xs : List Value} (h : w.ownsRow base e size v n xs) {p : Nat} {cs : Array Value} {t : TypeId} {fr : Nat × Nat} (hp : w.heap[p]? = some (.cells cs t fr)) (ht : t ≠ e) : v.ownBlock ≠ some p := by
  rcases h.2 with ⟨rfl, _⟩ | ⟨g, cap, cur, rfl, _, hg, _⟩
  · simp [Value.ownBlock]
  · intro e
    simp only [Value.ownBlock, Option.some.injEq] at e
    subst e
    rw [hg] at hp
    injection hp with hp
    injection hp with _ h2 _
    exact ht h2.symm

theorem OwnF.cut {w : World} {base n cap : Nat} {a : Option Addr} {xs : List Fld} (h : OwnF w base (.slice a n cap) n xs) (k : Nat) (hk : k ≤ n) : OwnF w base (.slice a k cap) k (xs.take k) := by
  by_cases he : k = n
  · subst he
    rw [List.take_of_length_le (by rw [h.len]; exact Nat.le_refl _)]
    exact h
  · exact h.take k hk (own_some h.1 (by omega))

/-- A variable of two cells. -/
def Box2 (W : World) (b : Nat) (t : TypeId) (x y : Value) : Prop := W.heap[b]? = some (.cells #[x, y] t (0, 0))

theorem Box2.lt {W : World} {b : Nat} {t : TypeId} {x y : Value} (h : Box2 W b t x y) : b < W.heap.size := (Array.getElem?_eq_some_iff.1 h).1

theorem Box2.stays {W W' : World} {b : Nat} {t : TypeId} {x y : Value} (h : Box2 W b t x y) (hb : Below W.heap.size W W') : Box2 W' b t x y := (hb.block b h.lt).trans h

theorem Box2.alloc {W : World} {b : Nat} {t : TypeId} {x y : Value} (h : Box2 W b t x y) (o : Obj) : Box2 (W.alloc o) b t x y := kept_alloc h o

theorem Box2.new (W : World) (t : TypeId) (x y : Value) : Box2 (W.alloc (.cells #[x, y] t)) W.heap.size t x y := heap_alloc_new W _

theorem Box2.cells {W : World} {b : Nat} {t : TypeId} {x y : Value} (h : Box2 W b t x y) : W.cell? ⟨b, 0, none⟩ = some x ∧ W.cell? ⟨b, 1, none⟩ = some y ∧ W.frozen? ⟨b, 0, none⟩ = false ∧ W.frozen? ⟨b, 1, none⟩ = false := two_cells h

theorem Box2.grown {W W' : World} {b : Nat} {t : TypeId} {x y : Value} {r : Option Nat} (h : Box2 W b t x y) (hg : W.grownBy W' r) (hr : r ≠ some b) : Box2 W' b t x y := (hg.block b h.lt (Ne.symm hr)).trans h

theorem OwnF.stays {W W' : World} {base n : Nat} {v : Value} {xs : List Fld} (h : OwnF W base v n xs) (hb : Below W.heap.size W W') : OwnF W' base v n xs := ⟨own_stays h.1 hb, h.2⟩

theorem OwnF.grown {W W' : World} {base n : Nat} {v : Value} {xs : List Fld} {r : Option Nat} (h : OwnF W base v n xs) (hg : W.grownBy W' r) (hr : v.ownBlock = none ∨ v.ownBlock ≠ r) : OwnF W' base v n xs := ⟨h.1.kept hg hr, h.2⟩

theorem OwnF.lt {W : World} {base n : Nat} {v : Value} {xs : List Fld} (h : OwnF W base v n xs) : ∀ k, v.ownBlock = some k → base ≤ k ∧ k < W.heap.size := h.1.lt

/-- The block of a slice's row. -/
theorem ownBlock_slice (a : Option Addr) (n cap : Nat) : (Value.slice a n cap).ownBlock = a.map (·.block) := by cases a <;> rfl

theorem AddAns.short {m : Int} {xs : List Fld} {f : Fld} {ys : List Fld} (h : AddAns m xs f ys) : ys.length ≤ xs.length + 1 := by
  rcases h with ⟨_, k, _, rfl⟩ | ⟨_, rfl⟩
  · rw [List.length_take]
    simp only [List.length_cons]
    omega
  · omega

theorem put_box {X Y : World} {b base n : Nat} {v : Value} {ys : List Fld} (hb : Below X.heap.size X Y) (hX : X.heap.size ≤ b) (hq : Box2 Y b 32 (.int .i64 0) (.slice none 0 0)) (hlt : b < base) (ho : OwnF Y base v n ys) (m : Int) :
    Below X.heap.size X ((Y.setCell ⟨b, 0, none⟩ (.int .i64 m)).setCell ⟨b, 1, none⟩ v) ∧ Box2 ((Y.setCell ⟨b, 0, none⟩ (.int .i64 m)).setCell ⟨b, 1, none⟩ v) b 32 (.int .i64 m) v ∧ OwnF ((Y.setCell ⟨b, 0, none⟩ (.int .i64 m)).setCell ⟨b, 1, none⟩ v) X.heap.size v n ys :=
  ⟨(hb.setCell (p := ⟨b, 0, none⟩) hX _).setCell (p := ⟨b, 1, none⟩) hX _, two_set1 (two_set0 hq _) _,
    own_down (ownsRow_setCell_below (ownsRow_setCell_below ho.1 (a := ⟨b, 0, none⟩) hlt _) (a := ⟨b, 1, none⟩) hlt _) (by omega), ho.2⟩

theorem put_new {X Y : World} {base n : Nat} {v : Value} {ys : List Fld} (hb : Below X.heap.size X Y) (hX : X.heap.size ≤ base) (ho : OwnF Y base v n ys) (m : Int) :
    Below X.heap.size X (Y.alloc (.cells #[.int .i64 m, v] 32)) ∧ Box2 (Y.alloc (.cells #[.int .i64 m, v] 32)) Y.heap.size 32 (.int .i64 m) v ∧ OwnF (Y.alloc (.cells #[.int .i64 m, v] 32)) X.heap.size v n ys :=
  ⟨hb.alloc hb.size _, Box2.new _ _ _ _, own_down (ho.stays ((Below.refl _ _).alloc (Nat.le_refl _) _)).1 hX, ho.2⟩

/-- What FieldAt answers. -/
def atAns (xs : List Fld) (i : Int) : Fld × Bool := if i ≤ 61 then firstAns i else if (i - 62).toNat < xs.length then (xs.getD (i - 62).toNat fnil, true) else (fnil, false)

end Go.Proofs.YtbaijmkghgnleaaGreatDoor

namespace Go.Proofs.YtbaijmkghgnleaaGreatDoor
open Go.RowKit
set_option linter.unusedVariables false

/-- What FindField answers over all fields in the order of their numbers: the number, and whether the value is there, too. -/
def FindAns (L : List Fld) (f : Fld) (i : Int) (b : Bool) : Prop :=
  (b = true ∧ ∃ k : Nat, L[k]? = some f ∧ (∀ j : Nat, j < k → L[j]? ≠ some f) ∧ i = (k : Int) + 1) ∨
  (b = false ∧ (∀ j : Nat, L[j]? ≠ some f) ∧ ((∃ (k : Nat) (g : Fld), L[k]? = some g ∧ g.1 = f.1 ∧ (∀ (j : Nat) (g' : Fld), j < k → L[j]? = some g' → g'.1 ≠ f.1) ∧ i = (k : Int) + 1) ∨ ((∀ (j : Nat) (g' : Fld), L[j]? = some g' → g'.1 ≠ f.1) ∧ i = 0)))

theorem FindAns.one {L : List Fld} {f : Fld} {i j : Int} {b c : Bool} (h : FindAns L f i b) (g : FindAns L f j c) : i = j ∧ b = c := by
  rcases h with ⟨rfl, k, h1, h2, rfl⟩ | ⟨rfl, h0, h⟩ <;> rcases g with ⟨rfl, k', g1, g2, rfl⟩ | ⟨rfl, g0, g⟩
  · have : k = k' := by
      rcases Nat.lt_trichotomy k k' with hl | he | hg
      · exact absurd h1 (g2 k hl)
      · exact he
      · exact absurd g1 (h2 k' hg)
    exact ⟨by omega, rfl⟩
  · exact absurd h1 (g0 k)
  · exact absurd g1 (h0 k')
  · refine ⟨?_, rfl⟩
    rcases h with ⟨k, x, h1, h2, h3, rfl⟩ | ⟨h1, rfl⟩ <;> rcases g with ⟨k', x', g1, g2, g3, rfl⟩ | ⟨g1, rfl⟩
    · have : k = k' := by
        rcases Nat.lt_trichotomy k k' with hl | he | hg
        · exact absurd h2 (g3 k x hl h1)
        · exact he
        · exact absurd g2 (h3 k' x' hg g1)
      omega
    · exact absurd h2 (g1 k x h1)
    · exact absurd g2 (h1 k' x' g1)
    · rfl

/-- The name that was found among the first k. -/
def NameAt (L : List Fld) (f : Fld) (k : Nat) (n : Int) : Prop :=
  (n = 0 ∧ ∀ (j : Nat) (g : Fld), j < k → L[j]? = some g → g.1 ≠ f.1) ∨ (∃ (j : Nat) (g : Fld), j < k ∧ L[j]? = some g ∧ g.1 = f.1 ∧ (∀ (j' : Nat) (g' : Fld), j' < j → L[j']? = some g' → g'.1 ≠ f.1) ∧ n = (j : Int) + 1)

theorem bytes_inj {x y : ByteArray} (h : x.toList = y.toList) : x = y := by
  rw [Lib.toList_data, Lib.toList_data] at h
  cases x
  cases y
  simp at h
  rw [h]

theorem NameAt.hit {L : List Fld} {f g : Fld} {k : Nat} (h : NameAt L f k 0) (hg : L[k]? = some g) (he : g.1 = f.1) : NameAt L f (k + 1) ((k : Int) + 1) := by
  rcases h with ⟨_, h⟩ | ⟨j, _, _, _, _, _, h⟩
  · exact .inr ⟨k, g, Nat.lt_succ_self _, hg, he, h, rfl⟩
  · omega

theorem NameAt.keep {L : List Fld} {f : Fld} {k : Nat} {n : Int} (h : NameAt L f k n) (hn : n ≠ 0) : NameAt L f (k + 1) n := by
  rcases h with ⟨h0, _⟩ | ⟨j, g, hj, r⟩
  · exact absurd h0 hn
  · exact .inr ⟨j, g, by omega, r⟩

theorem NameAt.miss {L : List Fld} {f g : Fld} {k : Nat} {n : Int} (h : NameAt L f k n) (hg : L[k]? = some g) (he : g.1 ≠ f.1) : NameAt L f (k + 1) n := by
  rcases h with ⟨h0, h1⟩ | ⟨j, g', hj, r⟩
  · refine .inl ⟨h0, fun j g' hj hg' => ?_⟩
    by_cases e : j = k
    · subst e
      rw [hg] at hg'
      injection hg' with hg'
      subst hg'
      exact he
    · exact h1 j g' (by omega) hg'
  · exact .inr ⟨j, g', by omega, r⟩

theorem NameAt.done {L : List Fld} {f : Fld} {n : Int} (h : NameAt L f L.length n) (hno : ∀ j : Nat, j < L.length → L[j]? ≠ some f) : FindAns L f n false := by
  refine .inr ⟨rfl, ?_, ?_⟩
  · intro j
    by_cases hj : j < L.length
    · exact hno j hj
    · rw [List.getElem?_eq_none (by omega)]
      simp
  · rcases h with ⟨h0, h1⟩ | ⟨j, g, hj, h1, h2, h3, h4⟩
    · refine .inr ⟨fun j g' hg' => ?_, h0⟩
      exact h1 j g' (List.getElem?_eq_some_iff.1 hg').1 hg'
    · exact .inl ⟨j, g, h1, h2, h3, h4⟩

theorem no_next {L : List Fld} {f g : Fld} {k : Nat} (h : ∀ j, j < k → L[j]? ≠ some f) (hg : L[k]? = some g) (hne : g ≠ f) : ∀ j, j < k + 1 → L[j]? ≠ some f := by
  intro j hj
  by_cases e : j = k
  · subst e
    rw [hg]
    intro h
    injection h with h
    exact hne h
  · exact h j (by omega)

end Go.Proofs.YtbaijmkghgnleaaGreatDoor

namespace Go.Proofs.YtbaijmkghgnleaaGreatDoor
open Go.RowKit
set_option linter.unusedVariables false

theorem assert_no {P : Program} {t u xT : TypeId} {fs : Array Field} {z v : Value} (hu : P.underlying u = some (.struct fs)) (hz : (P.info? u).map (·.zero) = some (some z)) (hne : t ≠ u) (w : World) :
    (Instr.typeAssert (.iface t v) xT u true).run P w = .ok (.tuple #[z, .bool false]) w := by
  obtain ⟨i, hi, hzz⟩ := Option.map_eq_some_iff.1 hz
  simp [Instr.typeAssert, run_underlying hu, hne, zeroValue, typeInfo, hi, hzz]

theorem assert_yes {P : Program} {u xT : TypeId} {fs : Array Field} {v : Value} (hu : P.underlying u = some (.struct fs)) (w : World) :
    (Instr.typeAssert (.iface u v) xT u true).run P w = .ok (.tuple #[v, .bool true]) w := by
  simp [Instr.typeAssert, run_underlying hu]

/-- The form that is taken for a field. -/
def formT (mode : Int) (b : Bool) : TypeId := if mode = 3 then 108 else if b = true then 109 else if mode = 1 then 110 else 111

set_option maxRecDepth 10000 in
theorem formFor_any (mode : Int) (b : Bool) (w : World) : Calls Tryz.prog 73 #[.int .i64 mode, .bool b] w fun e w' => e = .returned (.iface (formT mode b) (.agg #[])) ∧ w' = w := by
  by_cases h3 : mode = 3
  · subst h3
    go_enter Tryz.func73, Tryz.ntmps73
    go_wp2_with fail
    go_ret
    exact ⟨rfl, rfl⟩
  · have h3' : (mode == 3) = false := by simp; omega
    cases b with
    | true =>
      go_enter Tryz.func73, Tryz.ntmps73
      go_wp2_with fail
      go_ret
      refine ⟨?_, rfl⟩
      rw [formT, if_neg h3, if_pos rfl]
      rfl
    | false =>
      by_cases h1 : mode = 1
      · subst h1
        go_enter Tryz.func73, Tryz.ntmps73
        go_wp2_with fail
        go_ret
        exact ⟨rfl, rfl⟩
      · have h1' : (mode == 1) = false := by simp; omega
        go_enter Tryz.func73, Tryz.ntmps73
        go_wp2_with fail
        go_ret
        refine ⟨?_, rfl⟩
        rw [formT, if_neg h3, if_neg (by decide), if_neg h1]
        rfl

theorem lead_never (w : World) : Calls Tryz.prog 140 #[.agg #[]] w fun e w' => e = .returned (.tuple #[.int .i64 4, .int .i64 16]) ∧ Below w.heap.size w w' := by
  go_enter Tryz.func140, Tryz.ntmps140
  go_wp2_with fail
  go_ret2
  exact ⟨rfl, (Below.refl _ _).alloc (Nat.le_refl _) _⟩

theorem lead_indexed (w : World) : Calls Tryz.prog 141 #[.agg #[]] w fun e w' => e = .returned (.tuple #[.int .i64 7, .int .i64 128]) ∧ Below w.heap.size w w' := by
  go_enter Tryz.func141, Tryz.ntmps141
  go_wp2_with fail
  go_ret2
  exact ⟨rfl, (Below.refl _ _).alloc (Nat.le_refl _) _⟩

theorem lead_add (w : World) : Calls Tryz.prog 142 #[.agg #[]] w fun e w' => e = .returned (.tuple #[.int .i64 6, .int .i64 64]) ∧ Below w.heap.size w w' := by
  go_enter Tryz.func142, Tryz.ntmps142
  go_wp2_with fail
  go_ret2
  exact ⟨rfl, (Below.refl _ _).alloc (Nat.le_refl _) _⟩

theorem lead_plain (w : World) : Calls Tryz.prog 143 #[.agg #[]] w fun e w' => e = .returned (.tuple #[.int .i64 4, .int .i64 0]) ∧ Below w.heap.size w w' := by
  go_enter Tryz.func143, Tryz.ntmps143
  go_wp2_with fail
  go_ret2
  exact ⟨rfl, (Below.refl _ _).alloc (Nat.le_refl _) _⟩

/-- The bytes of a field that is told itself: the number of its name, or 0 and the name; the value. -/
def LitOf (B F : Nat) (i : Nat) (x y : ByteArray) (q : List Int) : Prop := ∃ p v, ((i = 0 ∧ StrOf x p) ∨ (i ≠ 0 ∧ p = [])) ∧ StrOf y v ∧ q = pfx B F i ++ p ++ v

theorem LitOf.one {B F i : Nat} {x y : ByteArray} {q r : List Int} (h : LitOf B F i x y q) (g : LitOf B F i x y r) : q = r := by
  obtain ⟨p, v, h1, h2, rfl⟩ := h
  obtain ⟨p', v', g1, g2, rfl⟩ := g
  rw [h2.one g2]
  rcases h1 with ⟨h0, h1⟩ | ⟨h0, rfl⟩ <;> rcases g1 with ⟨g0, g1⟩ | ⟨g0, rfl⟩
  · rw [h1.one g1]
  · exact absurd h0 g0
  · exact absurd g0 h0
  · rfl

theorem LitOf.len {B F i : Nat} {x y : ByteArray} {q : List Int} (h : LitOf B F i x y q) : q.length ≤ x.size + y.size + 18 := by
  obtain ⟨p, v, h1, h2, rfl⟩ := h
  have a1 := pfx_len B F i
  have a2 := h2.len
  rw [List.length_append, List.length_append]
  rcases h1 with ⟨_, h1⟩ | ⟨_, rfl⟩
  · have a3 := h1.len
    omega
  · simp only [List.length_nil]
    omega

set_option maxRecDepth 10000 in
set_option maxHeartbeats 1600000 in
theorem putForm_never (i : Nat) (x y : ByteArray) (w : World) (hi : i ≤ 16777216) (hx : x.size ≤ 16777216) (hy : y.size ≤ 16777216) :
    Calls Tryz.prog 74 #[.iface 108 (.agg #[]), .int .i64 i, .agg #[.string x, .string y]] w fun e w' => ∃ (q : List Int) (a' : Option Addr) (cap' : Nat), LitOf 4 16 i x y q ∧ e = .returned (.slice a' q.length cap') ∧ Owns w' w.heap.size a' q.length cap' q ∧ Below w.heap.size w w' := by
  obtain ⟨w1, hw1⟩ : ∃ w1, w.alloc (.cells #[.string x, .string y] 69) = w1 := ⟨_, rfl⟩
  have HB1 : Hid (Below w.heap.size w w1) := by show Below _ _ _; rw [← hw1]; exact (Below.refl _ _).alloc (Nat.le_refl _) _
  have q1 : Box2 w1 w.heap.size 69 (.string x) (.string y) := by rw [← hw1]; exact Box2.new _ _ _ _
  have HQ : Hid (∀ W, Below w1.heap.size w1 W → Box2 W w.heap.size 69 (.string x) (.string y) ∧ Below w.heap.size w W) := fun W h => ⟨q1.stays h, HB1.out.trans (h.mono HB1.out.size)⟩
  clear q1
  have hta : ∀ w : World, (Instr.typeAssert (.iface 108 (.agg #[])) 96 109 true).run Tryz.prog w = .ok (.tuple #[.agg #[], .bool false]) w := fun w => assert_no Tryz.underlying109 (by kernel_rfl) (by decide) w
  go_enter Tryz.func74, Tryz.ntmps74
  go_wp2_with fail
  refine (lead_never _).mono ?_
  rintro e w2 ⟨rfl, hb2⟩
  have HB2 : Hid (Below w1.heap.size w1 w2) := hb2
  clear hb2 hw1
  go_wp2_with fail
  refine (implPfx_good none 0 0 4 16 (i : Int) [] _ ⟨rfl, by simp, .inl rfl⟩ (by omega) (by decide) (by decide) (by decide)).mono ?_
  rintro e w3 ⟨a3, c3, rfl, ow3, hb3⟩
  have hmin : (min (i : Int) 16777216).toNat = i := by omega
  rw [hmin, List.nil_append] at ow3 ⊢
  clear hmin
  have HB3 : Hid (Below w1.heap.size w1 w3) := HB2.out.trans (hb3.mono HB2.out.size)
  have HO3 : Hid (Owns w3 w2.heap.size a3 (pfx 4 16 i).length c3 (pfx 4 16 i)) := ow3
  have hpl := pfx_len 4 16 i
  clear ow3 hb3
  generalize hP : pfx 4 16 i = P at *
  have HP : Hid (pfx 4 16 i = P) := hP
  clear hP
  generalize hpn : P.length = pn at *
  have HPn : Hid (P.length = pn) := hpn
  clear hpn
  obtain ⟨c0, c1, _, _⟩ := (HQ.out _ HB3.out).1.cells
  by_cases h0 : i = 0
  · subst h0
    go_wp2_with fail
    refine (implPutS_any a3 pn c3 x P _ HO3.out.seg (by omega) hx).mono ?_
    rintro e w4 ⟨p, a4, c4, hp, rfl, ow4, hb4⟩
    have HB4 : Hid (Below w1.heap.size w1 w4) := HB3.out.trans (hb4.mono HB3.out.size)
    have HO4 : Hid (Owns w4 w3.heap.size a4 (P ++ p).length c4 (P ++ p)) := ow4
    have hpl4 : (P ++ p).length ≤ 16777300 := by have := hp.len; rw [List.length_append, HPn.out]; omega
    have HS : Hid (StrOf x p) := hp
    clear hp ow4 hb4 c0 c1
    obtain ⟨c0, c1, _, _⟩ := (HQ.out _ HB4.out).1.cells
    generalize hR : P ++ p = R at *
    have HR : Hid (P ++ p = R) := hR
    clear hR
    generalize hrn : R.length = rn at *
    have HRn : Hid (R.length = rn) := hrn
    clear hrn
    go_wp2_with fail
    refine (implPutS_any a4 rn c4 y R _ HO4.out.seg (by omega) hy).mono ?_
    rintro e w5 ⟨v, a5, c5, hv, rfl, ow5, hb5⟩
    have HB5 : Hid (Below w1.heap.size w1 w5) := HB4.out.trans (hb5.mono HB4.out.size)
    have HO5 : Hid (Owns w5 w4.heap.size a5 (R ++ v).length c5 (R ++ v)) := ow5
    have HV : Hid (StrOf y v) := hv
    clear hv ow5 hb5 c0 c1
    go_wp2_with fail
    go_ret
    have hz : w.heap.size ≤ w4.heap.size := by have h1 := HB1.out.size; have h2 := HB4.out.size; omega
    exact ⟨R ++ v, a5, c5, ⟨p, v, .inl ⟨rfl, HS.out⟩, HV.out, by rw [HP.out, HR.out]⟩, by rw [List.length_append]; rfl, ⟨own_lower HO5.out.1 hz, HO5.out.2⟩, (HQ.out _ HB5.out).2⟩
  · have h0i : ((i : Int) == 0) = false := by simp; omega
    have h0j : ¬ (i : Int) = 0 := by omega
    go_wp2_with fail
    refine (implPutS_any a3 pn c3 y P _ HO3.out.seg (by omega) hy).mono ?_
    rintro e w4 ⟨v, a4, c4, hv, rfl, ow4, hb4⟩
    have HB4 : Hid (Below w1.heap.size w1 w4) := HB3.out.trans (hb4.mono HB3.out.size)
    have HO4 : Hid (Owns w4 w3.heap.size a4 (P ++ v).length c4 (P ++ v)) := ow4
    have HV : Hid (StrOf y v) := hv
    clear hv ow4 hb4 c0 c1
    go_wp2_with fail
    go_ret
    have hz : w.heap.size ≤ w3.heap.size := by have h1 := HB1.out.size; have h2 := HB3.out.size; omega
    exact ⟨P ++ v, a4, c4, ⟨[], v, .inr ⟨h0, rfl⟩, HV.out, by rw [HP.out, List.append_nil]⟩, by rw [List.length_append]; rfl, ⟨own_lower HO4.out.1 hz, HO4.out.2⟩, (HQ.out _ HB4.out).2⟩

set_option maxRecDepth 10000 in
set_option maxHeartbeats 1600000 in
theorem putForm_indexed (i : Nat) (x y : ByteArray) (w : World) (hi : i ≤ 16777216) (hx : x.size ≤ 16777216) (hy : y.size ≤ 16777216) :
    Calls Tryz.prog 74 #[.iface 109 (.agg #[]), .int .i64 i, .agg #[.string x, .string y]] w fun e w' => ∃ (q : List Int) (a' : Option Addr) (cap' : Nat), q = pfx 7 128 i ∧ e = .returned (.slice a' q.length cap') ∧ Owns w' w.heap.size a' q.length cap' q ∧ Below w.heap.size w w' := by
  obtain ⟨w1, hw1⟩ : ∃ w1, w.alloc (.cells #[.string x, .string y] 69) = w1 := ⟨_, rfl⟩
  have HB1 : Hid (Below w.heap.size w w1) := by show Below _ _ _; rw [← hw1]; exact (Below.refl _ _).alloc (Nat.le_refl _) _
  have q1 : Box2 w1 w.heap.size 69 (.string x) (.string y) := by rw [← hw1]; exact Box2.new _ _ _ _
  have HQ : Hid (∀ W, Below w1.heap.size w1 W → Box2 W w.heap.size 69 (.string x) (.string y) ∧ Below w.heap.size w W) := fun W h => ⟨q1.stays h, HB1.out.trans (h.mono HB1.out.size)⟩
  clear q1
  have hta : ∀ w : World, (Instr.typeAssert (.iface 109 (.agg #[])) 96 109 true).run Tryz.prog w = .ok (.tuple #[.agg #[], .bool true]) w := fun w => assert_yes Tryz.underlying109 w
  go_enter Tryz.func74, Tryz.ntmps74
  go_wp2_with fail
  refine (lead_indexed _).mono ?_
  rintro e w2 ⟨rfl, hb2⟩
  have HB2 : Hid (Below w1.heap.size w1 w2) := hb2
  clear hb2 hw1
  go_wp2_with fail
  refine (implPfx_good none 0 0 7 128 (i : Int) [] _ ⟨rfl, by simp, .inl rfl⟩ (by omega) (by decide) (by decide) (by decide)).mono ?_
  rintro e w3 ⟨a3, c3, rfl, ow3, hb3⟩
  have hmin : (min (i : Int) 16777216).toNat = i := by omega
  rw [hmin, List.nil_append] at ow3 ⊢
  clear hmin
  have HB3 : Hid (Below w1.heap.size w1 w3) := HB2.out.trans (hb3.mono HB2.out.size)
  have HO3 : Hid (Owns w3 w2.heap.size a3 (pfx 7 128 i).length c3 (pfx 7 128 i)) := ow3
  have hpl := pfx_len 7 128 i
  clear ow3 hb3
  generalize hP : pfx 7 128 i = P at *
  have HP : Hid (pfx 7 128 i = P) := hP
  clear hP
  generalize hpn : P.length = pn at *
  have HPn : Hid (P.length = pn) := hpn
  clear hpn
  go_wp2_with fail
  go_ret
  have hz : w.heap.size ≤ w2.heap.size := by have h1 := HB1.out.size; have h2 := HB2.out.size; omega
  refine ⟨P, a3, c3, HP.out.symm, ?_, ?_, (HQ.out _ HB3.out).2⟩
  · rw [HPn.out]
    rfl
  · rw [HPn.out]
    exact ⟨own_lower HO3.out.1 hz, HO3.out.2⟩

set_option maxRecDepth 10000 in
set_option maxHeartbeats 1600000 in
theorem putForm_add (i : Nat) (x y : ByteArray) (w : World) (hi : i ≤ 16777216) (hx : x.size ≤ 16777216) (hy : y.size ≤ 16777216) :
    Calls Tryz.prog 74 #[.iface 110 (.agg #[]), .int .i64 i, .agg #[.string x, .string y]] w fun e w' => ∃ (q : List Int) (a' : Option Addr) (cap' : Nat), LitOf 6 64 i x y q ∧ e = .returned (.slice a' q.length cap') ∧ Owns w' w.heap.size a' q.length cap' q ∧ Below w.heap.size w w' := by
  obtain ⟨w1, hw1⟩ : ∃ w1, w.alloc (.cells #[.string x, .string y] 69) = w1 := ⟨_, rfl⟩
  have HB1 : Hid (Below w.heap.size w w1) := by show Below _ _ _; rw [← hw1]; exact (Below.refl _ _).alloc (Nat.le_refl _) _
  have q1 : Box2 w1 w.heap.size 69 (.string x) (.string y) := by rw [← hw1]; exact Box2.new _ _ _ _
  have HQ : Hid (∀ W, Below w1.heap.size w1 W → Box2 W w.heap.size 69 (.string x) (.string y) ∧ Below w.heap.size w W) := fun W h => ⟨q1.stays h, HB1.out.trans (h.mono HB1.out.size)⟩
  clear q1
  have hta : ∀ w : World, (Instr.typeAssert (.iface 110 (.agg #[])) 96 109 true).run Tryz.prog w = .ok (.tuple #[.agg #[], .bool false]) w := fun w => assert_no Tryz.underlying109 (by kernel_rfl) (by decide) w
  go_enter Tryz.func74, Tryz.ntmps74
  go_wp2_with fail
  refine (lead_add _).mono ?_
  rintro e w2 ⟨rfl, hb2⟩
  have HB2 : Hid (Below w1.heap.size w1 w2) := hb2
  clear hb2 hw1
  go_wp2_with fail
  refine (implPfx_good none 0 0 6 64 (i : Int) [] _ ⟨rfl, by simp, .inl rfl⟩ (by omega) (by decide) (by decide) (by decide)).mono ?_
  rintro e w3 ⟨a3, c3, rfl, ow3, hb3⟩
  have hmin : (min (i : Int) 16777216).toNat = i := by omega
  rw [hmin, List.nil_append] at ow3 ⊢
  clear hmin
  have HB3 : Hid (Below w1.heap.size w1 w3) := HB2.out.trans (hb3.mono HB2.out.size)
  have HO3 : Hid (Owns w3 w2.heap.size a3 (pfx 6 64 i).length c3 (pfx 6 64 i)) := ow3
  have hpl := pfx_len 6 64 i
  clear ow3 hb3
  generalize hP : pfx 6 64 i = P at *
  have HP : Hid (pfx 6 64 i = P) := hP
  clear hP
  generalize hpn : P.length = pn at *
  have HPn : Hid (P.length = pn) := hpn
  clear hpn
  obtain ⟨c0, c1, _, _⟩ := (HQ.out _ HB3.out).1.cells
  by_cases h0 : i = 0
  · subst h0
    go_wp2_with fail
    refine (implPutS_any a3 pn c3 x P _ HO3.out.seg (by omega) hx).mono ?_
    rintro e w4 ⟨p, a4, c4, hp, rfl, ow4, hb4⟩
    have HB4 : Hid (Below w1.heap.size w1 w4) := HB3.out.trans (hb4.mono HB3.out.size)
    have HO4 : Hid (Owns w4 w3.heap.size a4 (P ++ p).length c4 (P ++ p)) := ow4
    have hpl4 : (P ++ p).length ≤ 16777300 := by have := hp.len; rw [List.length_append, HPn.out]; omega
    have HS : Hid (StrOf x p) := hp
    clear hp ow4 hb4 c0 c1
    obtain ⟨c0, c1, _, _⟩ := (HQ.out _ HB4.out).1.cells
    generalize hR : P ++ p = R at *
    have HR : Hid (P ++ p = R) := hR
    clear hR
    generalize hrn : R.length = rn at *
    have HRn : Hid (R.length = rn) := hrn
    clear hrn
    go_wp2_with fail
    refine (implPutS_any a4 rn c4 y R _ HO4.out.seg (by omega) hy).mono ?_
    rintro e w5 ⟨v, a5, c5, hv, rfl, ow5, hb5⟩
    have HB5 : Hid (Below w1.heap.size w1 w5) := HB4.out.trans (hb5.mono HB4.out.size)
    have HO5 : Hid (Owns w5 w4.heap.size a5 (R ++ v).length c5 (R ++ v)) := ow5
    have HV : Hid (StrOf y v) := hv
    clear hv ow5 hb5 c0 c1
    go_wp2_with fail
    go_ret
    have hz : w.heap.size ≤ w4.heap.size := by have h1 := HB1.out.size; have h2 := HB4.out.size; omega
    exact ⟨R ++ v, a5, c5, ⟨p, v, .inl ⟨rfl, HS.out⟩, HV.out, by rw [HP.out, HR.out]⟩, by rw [List.length_append]; rfl, ⟨own_lower HO5.out.1 hz, HO5.out.2⟩, (HQ.out _ HB5.out).2⟩
  · have h0i : ((i : Int) == 0) = false := by simp; omega
    have h0j : ¬ (i : Int) = 0 := by omega
    go_wp2_with fail
    refine (implPutS_any a3 pn c3 y P _ HO3.out.seg (by omega) hy).mono ?_
    rintro e w4 ⟨v, a4, c4, hv, rfl, ow4, hb4⟩
    have HB4 : Hid (Below w1.heap.size w1 w4) := HB3.out.trans (hb4.mono HB3.out.size)
    have HO4 : Hid (Owns w4 w3.heap.size a4 (P ++ v).length c4 (P ++ v)) := ow4
    have HV : Hid (StrOf y v) := hv
    clear hv ow4 hb4 c0 c1
    go_wp2_with fail
    go_ret
    have hz : w.heap.size ≤ w3.heap.size := by have h1 := HB1.out.size; have h2 := HB3.out.size; omega
    exact ⟨P ++ v, a4, c4, ⟨[], v, .inr ⟨h0, rfl⟩, HV.out, by rw [HP.out, List.append_nil]⟩, by rw [List.length_append]; rfl, ⟨own_lower HO4.out.1 hz, HO4.out.2⟩, (HQ.out _ HB4.out).2⟩

set_option maxRecDepth 10000 in
set_option maxHeartbeats 1600000 in
theorem putForm_plain (i : Nat) (x y : ByteArray) (w : World) (hi : i ≤ 16777216) (hx : x.size ≤ 16777216) (hy : y.size ≤ 16777216) :
    Calls Tryz.prog 74 #[.iface 111 (.agg #[]), .int .i64 i, .agg #[.string x, .string y]] w fun e w' => ∃ (q : List Int) (a' : Option Addr) (cap' : Nat), LitOf 4 0 i x y q ∧ e = .returned (.slice a' q.length cap') ∧ Owns w' w.heap.size a' q.length cap' q ∧ Below w.heap.size w w' := by
  obtain ⟨w1, hw1⟩ : ∃ w1, w.alloc (.cells #[.string x, .string y] 69) = w1 := ⟨_, rfl⟩
  have HB1 : Hid (Below w.heap.size w w1) := by show Below _ _ _; rw [← hw1]; exact (Below.refl _ _).alloc (Nat.le_refl _) _
  have q1 : Box2 w1 w.heap.size 69 (.string x) (.string y) := by rw [← hw1]; exact Box2.new _ _ _ _
  have HQ : Hid (∀ W, Below w1.heap.size w1 W → Box2 W w.heap.size 69 (.string x) (.string y) ∧ Below w.heap.size w W) := fun W h => ⟨q1.stays h, HB1.out.trans (h.mono HB1.out.size)⟩
  clear q1
  have hta : ∀ w : World, (Instr.typeAssert (.iface 111 (.agg #[])) 96 109 true).run Tryz.prog w = .ok (.tuple #[.agg #[], .bool false]) w := fun w => assert_no Tryz.underlying109 (by kernel_rfl) (by decide) w
  go_enter Tryz.func74, Tryz.ntmps74
  go_wp2_with fail
  refine (lead_plain _).mono ?_
  rintro e w2 ⟨rfl, hb2⟩
  have HB2 : Hid (Below w1.heap.size w1 w2) := hb2
  clear hb2 hw1
  go_wp2_with fail
  refine (implPfx_good none 0 0 4 0 (i : Int) [] _ ⟨rfl, by simp, .inl rfl⟩ (by omega) (by decide) (by decide) (by decide)).mono ?_
  rintro e w3 ⟨a3, c3, rfl, ow3, hb3⟩
  have hmin : (min (i : Int) 16777216).toNat = i := by omega
  rw [hmin, List.nil_append] at ow3 ⊢
  clear hmin
  have HB3 : Hid (Below w1.heap.size w1 w3) := HB2.out.trans (hb3.mono HB2.out.size)
  have HO3 : Hid (Owns w3 w2.heap.size a3 (pfx 4 0 i).length c3 (pfx 4 0 i)) := ow3
  have hpl := pfx_len 4 0 i
  clear ow3 hb3
  generalize hP : pfx 4 0 i = P at *
  have HP : Hid (pfx 4 0 i = P) := hP
  clear hP
  generalize hpn : P.length = pn at *
  have HPn : Hid (P.length = pn) := hpn
  clear hpn
  obtain ⟨c0, c1, _, _⟩ := (HQ.out _ HB3.out).1.cells
  by_cases h0 : i = 0
  · subst h0
    go_wp2_with fail
    refine (implPutS_any a3 pn c3 x P _ HO3.out.seg (by omega) hx).mono ?_
    rintro e w4 ⟨p, a4, c4, hp, rfl, ow4, hb4⟩
    have HB4 : Hid (Below w1.heap.size w1 w4) := HB3.out.trans (hb4.mono HB3.out.size)
    have HO4 : Hid (Owns w4 w3.heap.size a4 (P ++ p).length c4 (P ++ p)) := ow4
    have hpl4 : (P ++ p).length ≤ 16777300 := by have := hp.len; rw [List.length_append, HPn.out]; omega
    have HS : Hid (StrOf x p) := hp
    clear hp ow4 hb4 c0 c1
    obtain ⟨c0, c1, _, _⟩ := (HQ.out _ HB4.out).1.cells
    generalize hR : P ++ p = R at *
    have HR : Hid (P ++ p = R) := hR
    clear hR
    generalize hrn : R.length = rn at *
    have HRn : Hid (R.length = rn) := hrn
    clear hrn
    go_wp2_with fail
    refine (implPutS_any a4 rn c4 y R _ HO4.out.seg (by omega) hy).mono ?_
    rintro e w5 ⟨v, a5, c5, hv, rfl, ow5, hb5⟩
    have HB5 : Hid (Below w1.heap.size w1 w5) := HB4.out.trans (hb5.mono HB4.out.size)
    have HO5 : Hid (Owns w5 w4.heap.size a5 (R ++ v).length c5 (R ++ v)) := ow5
    have HV : Hid (StrOf y v) := hv
    clear hv ow5 hb5 c0 c1
    go_wp2_with fail
    go_ret
    have hz : w.heap.size ≤ w4.heap.size := by have h1 := HB1.out.size; have h2 := HB4.out.size; omega
    exact ⟨R ++ v, a5, c5, ⟨p, v, .inl ⟨rfl, HS.out⟩, HV.out, by rw [HP.out, HR.out]⟩, by rw [List.length_append]; rfl, ⟨own_lower HO5.out.1 hz, HO5.out.2⟩, (HQ.out _ HB5.out).2⟩
  · have h0i : ((i : Int) == 0) = false := by simp; omega
    have h0j : ¬ (i : Int) = 0 := by omega
    go_wp2_with fail
    refine (implPutS_any a3 pn c3 y P _ HO3.out.seg (by omega) hy).mono ?_
    rintro e w4 ⟨v, a4, c4, hv, rfl, ow4, hb4⟩
    have HB4 : Hid (Below w1.heap.size w1 w4) := HB3.out.trans (hb4.mono HB3.out.size)
    have HO4 : Hid (Owns w4 w3.heap.size a4 (P ++ v).length c4 (P ++ v)) := ow4
    have HV : Hid (StrOf y v) := hv
    clear hv ow4 hb4 c0 c1
    go_wp2_with fail
    go_ret
    have hz : w.heap.size ≤ w3.heap.size := by have h1 := HB1.out.size; have h2 := HB3.out.size; omega
    exact ⟨P ++ v, a4, c4, ⟨[], v, .inr ⟨h0, rfl⟩, HV.out, by rw [HP.out, List.append_nil]⟩, by rw [List.length_append]; rfl, ⟨own_lower HO4.out.1 hz, HO4.out.2⟩, (HQ.out _ HB4.out).2⟩

end Go.Proofs.YtbaijmkghgnleaaGreatDoor
