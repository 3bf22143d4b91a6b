/- What the texts on tables share: rows of one's own, variables of two cells, what AddField and Resize answer. No program in it but its table of types. What FindField answers. No program in it. The forms of a field in a block: which one is taken, and its bytes. The program's SizeOf. The program's ring of fields: its cells, a slot, a field that is pushed. -/
import Derived.Test.YtckpacifimpkgacGreatM07
import Derived.Test.YtckpacifimpkgacGreatM07
import Derived.Laws.Tables
import Derived.OneCell
import Derived.Lib.Strings
import Derived.Test.YtckpacifimpkgacGreatM04
import Derived.Deep.RegionWith
namespace Go.Proofs.YtckpacifimpkgacGreat
open Go.RowKit
set_option linter.unusedVariables false

theorem own_shape {w : World} {base size n : Nat} {e : TypeId} {v : Value} {xs : List Value} (h : w.ownsRow base e size v n xs) : ∃ a cap, v = .slice a n cap := by
  rcases h.2 with ⟨rfl, rfl⟩ | ⟨g, cap, cur, rfl, _⟩
  · exact ⟨_, _, rfl⟩
  · exact ⟨_, _, rfl⟩

theorem own_down {w : World} {base b' size n : Nat} {e : TypeId} {v : Value} {xs : List Value} (h : w.ownsRow base e size v n xs) (hb : b' ≤ base) : w.ownsRow b' e size v n xs := by
  refine ⟨h.1, ?_⟩
  rcases h.2 with h0 | ⟨g, cap, cur, he, hg, r⟩
  · exact .inl h0
  · exact .inr ⟨g, cap, cur, he, by omega, r⟩

/-- A variable of two cells. -/
theorem two_cells {w : World} {b : Nat} {x y : Value} {t : TypeId} (h : w.heap[b]? = some (.cells #[x, y] t (0, 0))) : w.cell? ⟨b, 0, none⟩ = some x ∧ w.cell? ⟨b, 1, none⟩ = some y ∧ w.frozen? ⟨b, 0, none⟩ = false ∧ w.frozen? ⟨b, 1, none⟩ = false := by
  refine ⟨?_, ?_, ?_, ?_⟩
  · rw [cell_of_row _ _ _ _ _ _ h]; rfl
  · rw [cell_of_row _ _ _ _ _ _ h]; rfl
  · simp [World.frozen?, h]
  · simp [World.frozen?, h]

theorem Flds.take {w : World} {a : Option Addr} {n : Nat} {xs : List Fld} (h : Flds w a n xs) (k : Nat) (hk : k ≤ n) : Flds w a k (xs.take k) := by
  obtain ⟨h1, h2, h3⟩ := h
  refine ⟨by rw [List.length_take]; omega, fun f hf => h2 f (List.mem_of_mem_take hf), ?_⟩
  rcases h3 with h0 | ⟨b, off, ha, hb, hc⟩
  · exact .inl (by omega)
  · refine .inr ⟨b, off, ha, hb, fun i hi => ?_⟩
    have hi' : i < xs.length := by rw [List.length_take] at hi; omega
    have := hc i hi'
    rw [List.getElem_take]
    exact this

theorem two_set1 {w : World} {b : Nat} {x y : Value} {t : TypeId} (h : w.heap[b]? = some (.cells #[x, y] t (0, 0))) (v : Value) : (w.setCell ⟨b, 1, none⟩ v).heap[b]? = some (.cells #[x, v] t (0, 0)) := by
  rw [setCell_eq_setRow w b 1 _ t (0, 0) _ h, setRow_heap w b _ _ t (0, 0) h]
  rfl

theorem two_set0 {w : World} {b : Nat} {x y : Value} {t : TypeId} (h : w.heap[b]? = some (.cells #[x, y] t (0, 0))) (v : Value) : (w.setCell ⟨b, 0, none⟩ v).heap[b]? = some (.cells #[v, y] t (0, 0)) := by
  rw [setCell_eq_setRow w b 0 _ t (0, 0) _ h, setRow_heap w b _ _ t (0, 0) h]
  rfl

theorem set_block_other (w : World) (b b' k : Nat) (v : Value) (h : b ≠ b') : (w.setCell ⟨b', k, none⟩ v).heap[b]? = w.heap[b]? := by
  simp [World.setCell, Array.getElem?_modify, Ne.symm h]

theorem own_cap {w : World} {base size n cap : Nat} {a : Option Addr} {e : TypeId} {xs : List Value} (h : w.ownsRow base e size (.slice a n cap) n xs) : n ≤ cap := by
  rcases h.2 with ⟨he, hn⟩ | ⟨g, cap', cur, he, _, _, hc, _⟩
  · omega
  · injection he with _ _ e3
    omega

theorem own_stays {w w' : World} {base size n : Nat} {v : Value} {e : TypeId} {xs : List Value} (h : w.ownsRow base e size v n xs) (hb : Below w.heap.size w w') : w'.ownsRow base e size v n xs := by
  refine ⟨h.1, ?_⟩
  rcases h.2 with h0 | ⟨g, cap, cur, he, hg, hh, r⟩
  · exact .inl h0
  · exact .inr ⟨g, cap, cur, he, hg, (hb.block g (Array.getElem?_eq_some_iff.1 hh).1).trans hh, r⟩

theorem own_some {w : World} {base size n cap : Nat} {a : Option Addr} {e : TypeId} {xs : List Value} (h : w.ownsRow base e size (.slice a n cap) n xs) (hn : 0 < n) : a ≠ none := by
  rcases h.2 with ⟨_, h0⟩ | ⟨g, cap', cur, he, _⟩
  · omega
  · injection he with e1 _ _
    rw [e1]
    simp

theorem kept_alloc {w : World} {b : Nat} {x : Obj} (h : w.heap[b]? = some x) (o : Obj) : (w.alloc o).heap[b]? = some x := by
  have hl := (Array.getElem?_eq_some_iff.1 h).1
  show (w.heap.push o)[b]? = _
  rw [Array.getElem?_push, if_neg (by omega)]
  exact h

/-- What AddField answers: the fields. -/
def AddAns (m : Int) (xs : List Fld) (f : Fld) (ys : List Fld) : Prop := (okT m xs = true ∧ ∃ k, FitN m.toNat (f :: xs) k ∧ ys = (f :: xs).take k) ∨ (okT m xs = false ∧ ys = xs)

theorem AddAns.one {m : Int} {xs : List Fld} {f : Fld} {ys zs : List Fld} (h : AddAns m xs f ys) (g : AddAns m xs f zs) : ys = zs := by
  rcases h with ⟨h1, k, hk, rfl⟩ | ⟨h1, rfl⟩ <;> rcases g with ⟨g1, j, hj, rfl⟩ | ⟨g1, rfl⟩
  · rw [hk.one hj]
  · rw [h1] at g1; cases g1
  · rw [h1] at g1; cases g1
  · rfl

/-- What Resize answers: the room and the fields. -/
def CutAns (m n : Int) (xs : List Fld) (m' : Int) (ys : List Fld) : Prop := ((okT m xs = true ∧ 0 ≤ n ∧ n ≤ 4096) ∧ m' = n ∧ ∃ k, FitN n.toNat xs k ∧ ys = xs.take k) ∨ (¬ (okT m xs = true ∧ 0 ≤ n ∧ n ≤ 4096) ∧ m' = m ∧ ys = xs)

theorem CutAns.one {m n : Int} {xs : List Fld} {m' m'' : Int} {ys zs : List Fld} (h : CutAns m n xs m' ys) (g : CutAns m n xs m'' zs) : m' = m'' ∧ ys = zs := by
  rcases h with ⟨h1, rfl, k, hk, rfl⟩ | ⟨h1, rfl, rfl⟩ <;> rcases g with ⟨g1, rfl, j, hj, rfl⟩ | ⟨g1, rfl, rfl⟩
  · rw [hk.one hj]; exact ⟨rfl, rfl⟩
  · exact absurd h1 g1
  · exact absurd g1 h1
  · exact ⟨rfl, rfl⟩

theorem okT_range {m : Int} {xs : List Fld} (h : okT m xs = true) : 0 ≤ m ∧ m ≤ 4096 := by
  unfold okT at h
  have := of_decide_eq_true h
  exact ⟨this.1, this.2.1⟩

theorem own_other' {w : World} {base n size : Nat} {e : TypeId} {v : Value} {xs : List Value} (h : w.ownsRow base e size v n xs) {p : Nat} {cs : Array Value} {t : TypeId} {fr : Nat × Nat} (hp : w.heap[p]? = some (.cells cs t fr)) (ht : t ≠ e) : v.ownBlock ≠ some p := by
  rcases h.2 with ⟨rfl, _⟩ | ⟨g, cap, cur, rfl, _, hg, _⟩
  · simp [Value.ownBlock]
  · intro e
    simp only [Value.ownBlock, Option.some.injEq] at e
    subst e
    rw [hg] at hp
    injection hp with hp
    injection hp with _ h2 _
    exact ht h2.symm

theorem OwnF.cut {w : World} {base n cap : Nat} {a : Option Addr} {xs : List Fld} (h : OwnF w base (.slice a n cap) n xs) (k : Nat) (hk : k ≤ n) : OwnF w base (.slice a k cap) k (xs.take k) := by
  by_cases he : k = n
  · subst he
    rw [List.take_of_length_le (by rw [h.len]; exact Nat.le_refl _)]
    exact h
  · exact h.take k hk (own_some h.1 (by omega))

/-- A variable of two cells. -/
def Box2 (W : World) (b : Nat) (t : TypeId) (x y : Value) : Prop := W.heap[b]? = some (.cells #[x, y] t (0, 0))

theorem Box2.lt {W : World} {b : Nat} {t : TypeId} {x y : Value} (h : Box2 W b t x y) : b < W.heap.size := (Array.getElem?_eq_some_iff.1 h).1

theorem Box2.stays {W W' : World} {b : Nat} {t : TypeId} {x y : Value} (h : Box2 W b t x y) (hb : Below W.heap.size W W') : Box2 W' b t x y := (hb.block b h.lt).trans h

theorem Box2.alloc {W : World} {b : Nat} {t : TypeId} {x y : Value} (h : Box2 W b t x y) (o : Obj) : Box2 (W.alloc o) b t x y := kept_alloc h o

theorem Box2.new (W : World) (t : TypeId) (x y : Value) : Box2 (W.alloc (.cells #[x, y] t)) W.heap.size t x y := heap_alloc_new W _

theorem Box2.cells {W : World} {b : Nat} {t : TypeId} {x y : Value} (h : Box2 W b t x y) : W.cell? ⟨b, 0, none⟩ = some x ∧ W.cell? ⟨b, 1, none⟩ = some y ∧ W.frozen? ⟨b, 0, none⟩ = false ∧ W.frozen? ⟨b, 1, none⟩ = false := two_cells h

theorem Box2.grown {W W' : World} {b : Nat} {t : TypeId} {x y : Value} {r : Option Nat} (h : Box2 W b t x y) (hg : W.grownBy W' r) (hr : r ≠ some b) : Box2 W' b t x y := (hg.block b h.lt (Ne.symm hr)).trans h

theorem OwnF.stays {W W' : World} {base n : Nat} {v : Value} {xs : List Fld} (h : OwnF W base v n xs) (hb : Below W.heap.size W W') : OwnF W' base v n xs := ⟨own_stays h.1 hb, h.2⟩

theorem OwnF.grown {W W' : World} {base n : Nat} {v : Value} {xs : List Fld} {r : Option Nat} (h : OwnF W base v n xs) (hg : W.grownBy W' r) (hr : v.ownBlock = none ∨ v.ownBlock ≠ r) : OwnF W' base v n xs := ⟨h.1.kept hg hr, h.2⟩

theorem OwnF.lt {W : World} {base n : Nat} {v : Value} {xs : List Fld} (h : OwnF W base v n xs) : ∀ k, v.ownBlock = some k → base ≤ k ∧ k < W.heap.size := h.1.lt

/-- The block of a slice's row. -/
theorem ownBlock_slice (a : Option Addr) (n cap : Nat) : (Value.slice a n cap).ownBlock = a.map (·.block) := by cases a <;> rfl

theorem AddAns.short {m : Int} {xs : List Fld} {f : Fld} {ys : List Fld} (h : AddAns m xs f ys) : ys.length ≤ xs.length + 1 := by
  rcases h with ⟨_, k, _, rfl⟩ | ⟨_, rfl⟩
  · rw [List.length_take]
    simp only [List.length_cons]
    omega
  · omega

theorem put_box {X Y : World} {b base n : Nat} {v : Value} {ys : List Fld} (hb : Below X.heap.size X Y) (hX : X.heap.size ≤ b) (hq : Box2 Y b 26 (.int .i64 0) (.slice none 0 0)) (hlt : b < base) (ho : OwnF Y base v n ys) (m : Int) :
    Below X.heap.size X ((Y.setCell ⟨b, 0, none⟩ (.int .i64 m)).setCell ⟨b, 1, none⟩ v) ∧ Box2 ((Y.setCell ⟨b, 0, none⟩ (.int .i64 m)).setCell ⟨b, 1, none⟩ v) b 26 (.int .i64 m) v ∧ OwnF ((Y.setCell ⟨b, 0, none⟩ (.int .i64 m)).setCell ⟨b, 1, none⟩ v) X.heap.size v n ys :=
  ⟨(hb.setCell (p := ⟨b, 0, none⟩) hX _).setCell (p := ⟨b, 1, none⟩) hX _, two_set1 (two_set0 hq _) _,
    own_down (ownsRow_setCell_below (ownsRow_setCell_below ho.1 (a := ⟨b, 0, none⟩) hlt _) (a := ⟨b, 1, none⟩) hlt _) (by omega), ho.2⟩

theorem put_new {X Y : World} {base n : Nat} {v : Value} {ys : List Fld} (hb : Below X.heap.size X Y) (hX : X.heap.size ≤ base) (ho : OwnF Y base v n ys) (m : Int) :
    Below X.heap.size X (Y.alloc (.cells #[.int .i64 m, v] 26)) ∧ Box2 (Y.alloc (.cells #[.int .i64 m, v] 26)) Y.heap.size 26 (.int .i64 m) v ∧ OwnF (Y.alloc (.cells #[.int .i64 m, v] 26)) X.heap.size v n ys :=
  ⟨hb.alloc hb.size _, Box2.new _ _ _ _, own_down (ho.stays ((Below.refl _ _).alloc (Nat.le_refl _) _)).1 hX, ho.2⟩

/-- What FieldAt answers. -/
def atAns (xs : List Fld) (i : Int) : Fld × Bool := if i ≤ 61 then firstAns i else if (i - 62).toNat < xs.length then (xs.getD (i - 62).toNat fnil, true) else (fnil, false)

end Go.Proofs.YtckpacifimpkgacGreat

namespace Go.Proofs.YtckpacifimpkgacGreat
open Go.RowKit
set_option linter.unusedVariables false

/-- What FindField answers over all fields in the order of their numbers: the number, and whether the value is there, too. -/
def FindAns (L : List Fld) (f : Fld) (i : Int) (b : Bool) : Prop :=
  (b = true ∧ ∃ k : Nat, L[k]? = some f ∧ (∀ j : Nat, j < k → L[j]? ≠ some f) ∧ i = (k : Int) + 1) ∨
  (b = false ∧ (∀ j : Nat, L[j]? ≠ some f) ∧ ((∃ (k : Nat) (g : Fld), L[k]? = some g ∧ g.1 = f.1 ∧ (∀ (j : Nat) (g' : Fld), j < k → L[j]? = some g' → g'.1 ≠ f.1) ∧ i = (k : Int) + 1) ∨ ((∀ (j : Nat) (g' : Fld), L[j]? = some g' → g'.1 ≠ f.1) ∧ i = 0)))

theorem FindAns.one {L : List Fld} {f : Fld} {i j : Int} {b c : Bool} (h : FindAns L f i b) (g : FindAns L f j c) : i = j ∧ b = c := by
  rcases h with ⟨rfl, k, h1, h2, rfl⟩ | ⟨rfl, h0, h⟩ <;> rcases g with ⟨rfl, k', g1, g2, rfl⟩ | ⟨rfl, g0, g⟩
  · have : k = k' := by
      rcases Nat.lt_trichotomy k k' with hl | he | hg
      · exact absurd h1 (g2 k hl)
      · exact he
      · exact absurd g1 (h2 k' hg)
    exact ⟨by omega, rfl⟩
  · exact absurd h1 (g0 k)
  · exact absurd g1 (h0 k')
  · refine ⟨?_, rfl⟩
    rcases h with ⟨k, x, h1, h2, h3, rfl⟩ | ⟨h1, rfl⟩ <;> rcases g with ⟨k', x', g1, g2, g3, rfl⟩ | ⟨g1, rfl⟩
    · have : k = k' := by
        rcases Nat.lt_trichotomy k k' with hl | he | hg
        · exact absurd h2 (g3 k x hl h1)
        · exact he
        · exact absurd g2 (h3 k' x' hg g1)
      omega
    · exact absurd h2 (g1 k x h1)
    · exact absurd g2 (h1 k' x' g1)
    · rfl

/-- The name that was found among the first k. -/
def NameAt (L : List Fld) (f : Fld) (k : Nat) (n : Int) : Prop :=
  (n = 0 ∧ ∀ (j : Nat) (g : Fld), j < k → L[j]? = some g → g.1 ≠ f.1) ∨ (∃ (j : Nat) (g : Fld), j < k ∧ L[j]? = some g ∧ g.1 = f.1 ∧ (∀ (j' : Nat) (g' : Fld), j' < j → L[j']? = some g' → g'.1 ≠ f.1) ∧ n = (j : Int) + 1)

theorem bytes_inj {x y : ByteArray} (h : x.toList = y.toList) : x = y := by
  rw [Lib.toList_data, Lib.toList_data] at h
  cases x
  cases y
  simp at h
  rw [h]

theorem NameAt.hit {L : List Fld} {f g : Fld} {k : Nat} (h : NameAt L f k 0) (hg : L[k]? = some g) (he : g.1 = f.1) : NameAt L f (k + 1) ((k : Int) + 1) := by
  rcases h with ⟨_, h⟩ | ⟨j, _, _, _, _, _, h⟩
  · exact .inr ⟨k, g, Nat.lt_succ_self _, hg, he, h, rfl⟩
  · omega

theorem NameAt.keep {L : List Fld} {f : Fld} {k : Nat} {n : Int} (h : NameAt L f k n) (hn : n ≠ 0) : NameAt L f (k + 1) n := by
  rcases h with ⟨h0, _⟩ | ⟨j, g, hj, r⟩
  · exact absurd h0 hn
  · exact .inr ⟨j, g, by omega, r⟩

theorem NameAt.miss {L : List Fld} {f g : Fld} {k : Nat} {n : Int} (h : NameAt L f k n) (hg : L[k]? = some g) (he : g.1 ≠ f.1) : NameAt L f (k + 1) n := by
  rcases h with ⟨h0, h1⟩ | ⟨j, g', hj, r⟩
  · refine .inl ⟨h0, fun j g' hj hg' => ?_⟩
    by_cases e : j = k
    · subst e
      rw [hg] at hg'
      injection hg' with hg'
      subst hg'
      exact he
    · exact h1 j g' (by omega) hg'
  · exact .inr ⟨j, g', by omega, r⟩

theorem NameAt.done {L : List Fld} {f : Fld} {n : Int} (h : NameAt L f L.length n) (hno : ∀ j : Nat, j < L.length → L[j]? ≠ some f) : FindAns L f n false := by
  refine .inr ⟨rfl, ?_, ?_⟩
  · intro j
    by_cases hj : j < L.length
    · exact hno j hj
    · rw [List.getElem?_eq_none (by omega)]
      simp
  · rcases h with ⟨h0, h1⟩ | ⟨j, g, hj, h1, h2, h3, h4⟩
    · refine .inr ⟨fun j g' hg' => ?_, h0⟩
      exact h1 j g' (List.getElem?_eq_some_iff.1 hg').1 hg'
    · exact .inl ⟨j, g, h1, h2, h3, h4⟩

theorem no_next {L : List Fld} {f g : Fld} {k : Nat} (h : ∀ j, j < k → L[j]? ≠ some f) (hg : L[k]? = some g) (hne : g ≠ f) : ∀ j, j < k + 1 → L[j]? ≠ some f := by
  intro j hj
  by_cases e : j = k
  · subst e
    rw [hg]
    intro h
    injection h with h
    exact hne h
  · exact h j (by omega)

end Go.Proofs.YtckpacifimpkgacGreat

namespace Go.Proofs.YtckpacifimpkgacGreat
open Go.RowKit
set_option linter.unusedVariables false

theorem assert_no {P : Program} {t u xT : TypeId} {fs : Array Field} {z v : Value} (hu : P.underlying u = some (.struct fs)) (hz : (P.info? u).map (·.zero) = some (some z)) (hne : t ≠ u) (w : World) :
    (Instr.typeAssert (.iface t v) xT u true).run P w = .ok (.tuple #[z, .bool false]) w := by
  obtain ⟨i, hi, hzz⟩ := Option.map_eq_some_iff.1 hz
  simp [Instr.typeAssert, run_underlying hu, hne, zeroValue, typeInfo, hi, hzz]

theorem assert_yes {P : Program} {u xT : TypeId} {fs : Array Field} {v : Value} (hu : P.underlying u = some (.struct fs)) (w : World) :
    (Instr.typeAssert (.iface u v) xT u true).run P w = .ok (.tuple #[v, .bool true]) w := by
  simp [Instr.typeAssert, run_underlying hu]

/-- The form that is taken for a field. -/
def formT (mode : Int) (b : Bool) : TypeId := if mode = 3 then 98 else if b = true then 82 else if mode = 1 then 99 else 100

set_option maxRecDepth 10000 in
theorem formFor_any (mode : Int) (b : Bool) (w : World) : Calls Tryz.prog 35 #[.int .i64 mode, .bool b] w fun e w' => e = .returned (.iface (formT mode b) (.agg #[])) ∧ w' = w := by
  by_cases h3 : mode = 3
  · subst h3
    go_enter Tryz.func35, Tryz.ntmps35
    go_wp2_with fail
    go_ret
    exact ⟨rfl, rfl⟩
  · have h3' : (mode == 3) = false := by simp; omega
    cases b with
    | true =>
      go_enter Tryz.func35, Tryz.ntmps35
      go_wp2_with fail
      go_ret
      refine ⟨?_, rfl⟩
      rw [formT, if_neg h3, if_pos rfl]
      rfl
    | false =>
      by_cases h1 : mode = 1
      · subst h1
        go_enter Tryz.func35, Tryz.ntmps35
        go_wp2_with fail
        go_ret
        exact ⟨rfl, rfl⟩
      · have h1' : (mode == 1) = false := by simp; omega
        go_enter Tryz.func35, Tryz.ntmps35
        go_wp2_with fail
        go_ret
        refine ⟨?_, rfl⟩
        rw [formT, if_neg h3, if_neg (by decide), if_neg h1]
        rfl

theorem lead_never (w : World) : Calls Tryz.prog 122 #[.agg #[]] w fun e w' => e = .returned (.tuple #[.int .i64 4, .int .i64 16]) ∧ Below w.heap.size w w' := by
  go_enter Tryz.func122, Tryz.ntmps122
  go_wp2_with fail
  go_ret2
  exact ⟨rfl, (Below.refl _ _).alloc (Nat.le_refl _) _⟩

theorem lead_indexed (w : World) : Calls Tryz.prog 121 #[.agg #[]] w fun e w' => e = .returned (.tuple #[.int .i64 7, .int .i64 128]) ∧ Below w.heap.size w w' := by
  go_enter Tryz.func121, Tryz.ntmps121
  go_wp2_with fail
  go_ret2
  exact ⟨rfl, (Below.refl _ _).alloc (Nat.le_refl _) _⟩

theorem lead_add (w : World) : Calls Tryz.prog 123 #[.agg #[]] w fun e w' => e = .returned (.tuple #[.int .i64 6, .int .i64 64]) ∧ Below w.heap.size w w' := by
  go_enter Tryz.func123, Tryz.ntmps123
  go_wp2_with fail
  go_ret2
  exact ⟨rfl, (Below.refl _ _).alloc (Nat.le_refl _) _⟩

theorem lead_plain (w : World) : Calls Tryz.prog 124 #[.agg #[]] w fun e w' => e = .returned (.tuple #[.int .i64 4, .int .i64 0]) ∧ Below w.heap.size w w' := by
  go_enter Tryz.func124, Tryz.ntmps124
  go_wp2_with fail
  go_ret2
  exact ⟨rfl, (Below.refl _ _).alloc (Nat.le_refl _) _⟩

/-- The bytes of a field that is told itself: the number of its name, or 0 and the name; the value. -/
def LitOf (B F : Nat) (i : Nat) (x y : ByteArray) (q : List Int) : Prop := ∃ p v, ((i = 0 ∧ StrOf x p) ∨ (i ≠ 0 ∧ p = [])) ∧ StrOf y v ∧ q = pfx B F i ++ p ++ v

theorem LitOf.one {B F i : Nat} {x y : ByteArray} {q r : List Int} (h : LitOf B F i x y q) (g : LitOf B F i x y r) : q = r := by
  obtain ⟨p, v, h1, h2, rfl⟩ := h
  obtain ⟨p', v', g1, g2, rfl⟩ := g
  rw [h2.one g2]
  rcases h1 with ⟨h0, h1⟩ | ⟨h0, rfl⟩ <;> rcases g1 with ⟨g0, g1⟩ | ⟨g0, rfl⟩
  · rw [h1.one g1]
  · exact absurd h0 g0
  · exact absurd g0 h0
  · rfl

theorem LitOf.len {B F i : Nat} {x y : ByteArray} {q : List Int} (h : LitOf B F i x y q) : q.length ≤ x.size + y.size + 18 := by
  obtain ⟨p, v, h1, h2, rfl⟩ := h
  have a1 := pfx_len B F i
  have a2 := h2.len
  rw [List.length_append, List.length_append]
  rcases h1 with ⟨_, h1⟩ | ⟨_, rfl⟩
  · have a3 := h1.len
    omega
  · simp only [List.length_nil]
    omega

set_option maxRecDepth 10000 in
set_option maxHeartbeats 1600000 in
theorem putForm_never (i : Nat) (x y : ByteArray) (w : World) (hi : i ≤ 16777216) (hx : x.size ≤ 16777216) (hy : y.size ≤ 16777216) :
    Calls Tryz.prog 36 #[.iface 98 (.agg #[]), .int .i64 i, .agg #[.string x, .string y]] w fun e w' => ∃ (q : List Int) (a' : Option Addr) (cap' : Nat), LitOf 4 16 i x y q ∧ e = .returned (.slice a' q.length cap') ∧ Owns w' w.heap.size a' q.length cap' q ∧ Below w.heap.size w w' := by
  obtain ⟨w1, hw1⟩ : ∃ w1, w.alloc (.cells #[.string x, .string y] 43) = w1 := ⟨_, rfl⟩
  have HB1 : Hid (Below w.heap.size w w1) := by show Below _ _ _; rw [← hw1]; exact (Below.refl _ _).alloc (Nat.le_refl _) _
  have q1 : Box2 w1 w.heap.size 43 (.string x) (.string y) := by rw [← hw1]; exact Box2.new _ _ _ _
  have HQ : Hid (∀ W, Below w1.heap.size w1 W → Box2 W w.heap.size 43 (.string x) (.string y) ∧ Below w.heap.size w W) := fun W h => ⟨q1.stays h, HB1.out.trans (h.mono HB1.out.size)⟩
  clear q1
  have hta : ∀ w : World, (Instr.typeAssert (.iface 98 (.agg #[])) 69 82 true).run Tryz.prog w = .ok (.tuple #[.agg #[], .bool false]) w := fun w => assert_no Tryz.underlying82 (by kernel_rfl) (by decide) w
  go_enter Tryz.func36, Tryz.ntmps36
  go_wp2_with fail
  refine (lead_never _).mono ?_
  rintro e w2 ⟨rfl, hb2⟩
  have HB2 : Hid (Below w1.heap.size w1 w2) := hb2
  clear hb2 hw1
  go_wp2_with fail
  refine (implPfx_good none 0 0 4 16 (i : Int) [] _ ⟨rfl, by simp, .inl rfl⟩ (by omega) (by decide) (by decide) (by decide)).mono ?_
  rintro e w3 ⟨a3, c3, rfl, ow3, hb3⟩
  have hmin : (min (i : Int) 16777216).toNat = i := by omega
  rw [hmin, List.nil_append] at ow3 ⊢
  clear hmin
  have HB3 : Hid (Below w1.heap.size w1 w3) := HB2.out.trans (hb3.mono HB2.out.size)
  have HO3 : Hid (Owns w3 w2.heap.size a3 (pfx 4 16 i).length c3 (pfx 4 16 i)) := ow3
  have hpl := pfx_len 4 16 i
  clear ow3 hb3
  generalize hP : pfx 4 16 i = P at *
  have HP : Hid (pfx 4 16 i = P) := hP
  clear hP
  generalize hpn : P.length = pn at *
  have HPn : Hid (P.length = pn) := hpn
  clear hpn
  obtain ⟨c0, c1, _, _⟩ := (HQ.out _ HB3.out).1.cells
  by_cases h0 : i = 0
  · subst h0
    go_wp2_with fail
    refine (implPutS_any a3 pn c3 x P _ HO3.out.seg (by omega) hx).mono ?_
    rintro e w4 ⟨p, a4, c4, hp, rfl, ow4, hb4⟩
    have HB4 : Hid (Below w1.heap.size w1 w4) := HB3.out.trans (hb4.mono HB3.out.size)
    have HO4 : Hid (Owns w4 w3.heap.size a4 (P ++ p).length c4 (P ++ p)) := ow4
    have hpl4 : (P ++ p).length ≤ 16777300 := by have := hp.len; rw [List.length_append, HPn.out]; omega
    have HS : Hid (StrOf x p) := hp
    clear hp ow4 hb4 c0 c1
    obtain ⟨c0, c1, _, _⟩ := (HQ.out _ HB4.out).1.cells
    generalize hR : P ++ p = R at *
    have HR : Hid (P ++ p = R) := hR
    clear hR
    generalize hrn : R.length = rn at *
    have HRn : Hid (R.length = rn) := hrn
    clear hrn
    go_wp2_with fail
    refine (implPutS_any a4 rn c4 y R _ HO4.out.seg (by omega) hy).mono ?_
    rintro e w5 ⟨v, a5, c5, hv, rfl, ow5, hb5⟩
    have HB5 : Hid (Below w1.heap.size w1 w5) := HB4.out.trans (hb5.mono HB4.out.size)
    have HO5 : Hid (Owns w5 w4.heap.size a5 (R ++ v).length c5 (R ++ v)) := ow5
    have HV : Hid (StrOf y v) := hv
    clear hv ow5 hb5 c0 c1
    go_wp2_with fail
    go_ret
    have hz : w.heap.size ≤ w4.heap.size := by have h1 := HB1.out.size; have h2 := HB4.out.size; omega
    exact ⟨R ++ v, a5, c5, ⟨p, v, .inl ⟨rfl, HS.out⟩, HV.out, by rw [HP.out, HR.out]⟩, by rw [List.length_append]; rfl, ⟨own_lower HO5.out.1 hz, HO5.out.2⟩, (HQ.out _ HB5.out).2⟩
  · have h0i : ((i : Int) == 0) = false := by simp; omega
    have h0j : ¬ (i : Int) = 0 := by omega
    go_wp2_with fail
    refine (implPutS_any a3 pn c3 y P _ HO3.out.seg (by omega) hy).mono ?_
    rintro e w4 ⟨v, a4, c4, hv, rfl, ow4, hb4⟩
    have HB4 : Hid (Below w1.heap.size w1 w4) := HB3.out.trans (hb4.mono HB3.out.size)
    have HO4 : Hid (Owns w4 w3.heap.size a4 (P ++ v).length c4 (P ++ v)) := ow4
    have HV : Hid (StrOf y v) := hv
    clear hv ow4 hb4 c0 c1
    go_wp2_with fail
    go_ret
    have hz : w.heap.size ≤ w3.heap.size := by have h1 := HB1.out.size; have h2 := HB3.out.size; omega
    exact ⟨P ++ v, a4, c4, ⟨[], v, .inr ⟨h0, rfl⟩, HV.out, by rw [HP.out, List.append_nil]⟩, by rw [List.length_append]; rfl, ⟨own_lower HO4.out.1 hz, HO4.out.2⟩, (HQ.out _ HB4.out).2⟩

set_option maxRecDepth 10000 in
set_option maxHeartbeats 1600000 in
theorem putForm_indexed (i : Nat) (x y : ByteArray) (w : World) (hi : i ≤ 16777216) (hx : x.size ≤ 16777216) (hy : y.size ≤ 16777216) :
    Calls Tryz.prog 36 #[.iface 82 (.agg #[]), .int .i64 i, .agg #[.string x, .string y]] w fun e w' => ∃ (q : List Int) (a' : Option Addr) (cap' : Nat), q = pfx 7 128 i ∧ e = .returned (.slice a' q.length cap') ∧ Owns w' w.heap.size a' q.length cap' q ∧ Below w.heap.size w w' := by
  obtain ⟨w1, hw1⟩ : ∃ w1, w.alloc (.cells #[.string x, .string y] 43) = w1 := ⟨_, rfl⟩
  have HB1 : Hid (Below w.heap.size w w1) := by show Below _ _ _; rw [← hw1]; exact (Below.refl _ _).alloc (Nat.le_refl _) _
  have q1 : Box2 w1 w.heap.size 43 (.string x) (.string y) := by rw [← hw1]; exact Box2.new _ _ _ _
  have HQ : Hid (∀ W, Below w1.heap.size w1 W → Box2 W w.heap.size 43 (.string x) (.string y) ∧ Below w.heap.size w W) := fun W h => ⟨q1.stays h, HB1.out.trans (h.mono HB1.out.size)⟩
  clear q1
  have hta : ∀ w : World, (Instr.typeAssert (.iface 82 (.agg #[])) 69 82 true).run Tryz.prog w = .ok (.tuple #[.agg #[], .bool true]) w := fun w => assert_yes Tryz.underlying82 w
  go_enter Tryz.func36, Tryz.ntmps36
  go_wp2_with fail
  refine (lead_indexed _).mono ?_
  rintro e w2 ⟨rfl, hb2⟩
  have HB2 : Hid (Below w1.heap.size w1 w2) := hb2
  clear hb2 hw1
  go_wp2_with fail
  refine (implPfx_good none 0 0 7 128 (i : Int) [] _ ⟨rfl, by simp, .inl rfl⟩ (by omega) (by decide) (by decide) (by decide)).mono ?_
  rintro e w3 ⟨a3, c3, rfl, ow3, hb3⟩
  have hmin : (min (i : Int) 16777216).toNat = i := by omega
  rw [hmin, List.nil_append] at ow3 ⊢
  clear hmin
  have HB3 : Hid (Below w1.heap.size w1 w3) := HB2.out.trans (hb3.mono HB2.out.size)
  have HO3 : Hid (Owns w3 w2.heap.size a3 (pfx 7 128 i).length c3 (pfx 7 128 i)) := ow3
  have hpl := pfx_len 7 128 i
  clear ow3 hb3
  generalize hP : pfx 7 128 i = P at *
  have HP : Hid (pfx 7 128 i = P) := hP
  clear hP
  generalize hpn : P.length = pn at *
  have HPn : Hid (P.length = pn) := hpn
  clear hpn
  go_wp2_with fail
  go_ret
  have hz : w.heap.size ≤ w2.heap.size := by have h1 := HB1.out.size; have h2 := HB2.out.size; omega
  refine ⟨P, a3, c3, HP.out.symm, ?_, ?_, (HQ.out _ HB3.out).2⟩
  · rw [HPn.out]
    rfl
  · rw [HPn.out]
    exact ⟨own_lower HO3.out.1 hz, HO3.out.2⟩

set_option maxRecDepth 10000 in
set_option maxHeartbeats 1600000 in
theorem putForm_add (i : Nat) (x y : ByteArray) (w : World) (hi : i ≤ 16777216) (hx : x.size ≤ 16777216) (hy : y.size ≤ 16777216) :
    Calls Tryz.prog 36 #[.iface 99 (.agg #[]), .int .i64 i, .agg #[.string x, .string y]] w fun e w' => ∃ (q : List Int) (a' : Option Addr) (cap' : Nat), LitOf 6 64 i x y q ∧ e = .returned (.slice a' q.length cap') ∧ Owns w' w.heap.size a' q.length cap' q ∧ Below w.heap.size w w' := by
  obtain ⟨w1, hw1⟩ : ∃ w1, w.alloc (.cells #[.string x, .string y] 43) = w1 := ⟨_, rfl⟩
  have HB1 : Hid (Below w.heap.size w w1) := by show Below _ _ _; rw [← hw1]; exact (Below.refl _ _).alloc (Nat.le_refl _) _
  have q1 : Box2 w1 w.heap.size 43 (.string x) (.string y) := by rw [← hw1]; exact Box2.new _ _ _ _
  have HQ : Hid (∀ W, Below w1.heap.size w1 W → Box2 W w.heap.size 43 (.string x) (.string y) ∧ Below w.heap.size w W) := fun W h => ⟨q1.stays h, HB1.out.trans (h.mono HB1.out.size)⟩
  clear q1
  have hta : ∀ w : World, (Instr.typeAssert (.iface 99 (.agg #[])) 69 82 true).run Tryz.prog w = .ok (.tuple #[.agg #[], .bool false]) w := fun w => assert_no Tryz.underlying82 (by kernel_rfl) (by decide) w
  go_enter Tryz.func36, Tryz.ntmps36
  go_wp2_with fail
  refine (lead_add _).mono ?_
  rintro e w2 ⟨rfl, hb2⟩
  have HB2 : Hid (Below w1.heap.size w1 w2) := hb2
  clear hb2 hw1
  go_wp2_with fail
  refine (implPfx_good none 0 0 6 64 (i : Int) [] _ ⟨rfl, by simp, .inl rfl⟩ (by omega) (by decide) (by decide) (by decide)).mono ?_
  rintro e w3 ⟨a3, c3, rfl, ow3, hb3⟩
  have hmin : (min (i : Int) 16777216).toNat = i := by omega
  rw [hmin, List.nil_append] at ow3 ⊢
  clear hmin
  have HB3 : Hid (Below w1.heap.size w1 w3) := HB2.out.trans (hb3.mono HB2.out.size)
  have HO3 : Hid (Owns w3 w2.heap.size a3 (pfx 6 64 i).length c3 (pfx 6 64 i)) := ow3
  have hpl := pfx_len 6 64 i
  clear ow3 hb3
  generalize hP : pfx 6 64 i = P at *
  have HP : Hid (pfx 6 64 i = P) := hP
  clear hP
  generalize hpn : P.length = pn at *
  have HPn : Hid (P.length = pn) := hpn
  clear hpn
  obtain ⟨c0, c1, _, _⟩ := (HQ.out _ HB3.out).1.cells
  by_cases h0 : i = 0
  · subst h0
    go_wp2_with fail
    refine (implPutS_any a3 pn c3 x P _ HO3.out.seg (by omega) hx).mono ?_
    rintro e w4 ⟨p, a4, c4, hp, rfl, ow4, hb4⟩
    have HB4 : Hid (Below w1.heap.size w1 w4) := HB3.out.trans (hb4.mono HB3.out.size)
    have HO4 : Hid (Owns w4 w3.heap.size a4 (P ++ p).length c4 (P ++ p)) := ow4
    have hpl4 : (P ++ p).length ≤ 16777300 := by have := hp.len; rw [List.length_append, HPn.out]; omega
    have HS : Hid (StrOf x p) := hp
    clear hp ow4 hb4 c0 c1
    obtain ⟨c0, c1, _, _⟩ := (HQ.out _ HB4.out).1.cells
    generalize hR : P ++ p = R at *
    have HR : Hid (P ++ p = R) := hR
    clear hR
    generalize hrn : R.length = rn at *
    have HRn : Hid (R.length = rn) := hrn
    clear hrn
    go_wp2_with fail
    refine (implPutS_any a4 rn c4 y R _ HO4.out.seg (by omega) hy).mono ?_
    rintro e w5 ⟨v, a5, c5, hv, rfl, ow5, hb5⟩
    have HB5 : Hid (Below w1.heap.size w1 w5) := HB4.out.trans (hb5.mono HB4.out.size)
    have HO5 : Hid (Owns w5 w4.heap.size a5 (R ++ v).length c5 (R ++ v)) := ow5
    have HV : Hid (StrOf y v) := hv
    clear hv ow5 hb5 c0 c1
    go_wp2_with fail
    go_ret
    have hz : w.heap.size ≤ w4.heap.size := by have h1 := HB1.out.size; have h2 := HB4.out.size; omega
    exact ⟨R ++ v, a5, c5, ⟨p, v, .inl ⟨rfl, HS.out⟩, HV.out, by rw [HP.out, HR.out]⟩, by rw [List.length_append]; rfl, ⟨own_lower HO5.out.1 hz, HO5.out.2⟩, (HQ.out _ HB5.out).2⟩
  · have h0i : ((i : Int) == 0) = false := by simp; omega
    have h0j : ¬ (i : Int) = 0 := by omega
    go_wp2_with fail
    refine (implPutS_any a3 pn c3 y P _ HO3.out.seg (by omega) hy).mono ?_
    rintro e w4 ⟨v, a4, c4, hv, rfl, ow4, hb4⟩
    have HB4 : Hid (Below w1.heap.size w1 w4) := HB3.out.trans (hb4.mono HB3.out.size)
    have HO4 : Hid (Owns w4 w3.heap.size a4 (P ++ v).length c4 (P ++ v)) := ow4
    have HV : Hid (StrOf y v) := hv
    clear hv ow4 hb4 c0 c1
    go_wp2_with fail
    go_ret
    have hz : w.heap.size ≤ w3.heap.size := by have h1 := HB1.out.size; have h2 := HB3.out.size; omega
    exact ⟨P ++ v, a4, c4, ⟨[], v, .inr ⟨h0, rfl⟩, HV.out, by rw [HP.out, List.append_nil]⟩, by rw [List.length_append]; rfl, ⟨own_lower HO4.out.1 hz, HO4.out.2⟩, (HQ.out _ HB4.out).2⟩

set_option maxRecDepth 10000 in
set_option maxHeartbeats 1600000 in
theorem putForm_plain (i : Nat) (x y : ByteArray) (w : World) (hi : i ≤ 16777216) (hx : x.size ≤ 16777216) (hy : y.size ≤ 16777216) :
    Calls Tryz.prog 36 #[.iface 100 (.agg #[]), .int .i64 i, .agg #[.string x, .string y]] w fun e w' => ∃ (q : List Int) (a' : Option Addr) (cap' : Nat), LitOf 4 0 i x y q ∧ e = .returned (.slice a' q.length cap') ∧ Owns w' w.heap.size a' q.length cap' q ∧ Below w.heap.size w w' := by
  obtain ⟨w1, hw1⟩ : ∃ w1, w.alloc (.cells #[.string x, .string y] 43) = w1 := ⟨_, rfl⟩
  have HB1 : Hid (Below w.heap.size w w1) := by show Below _ _ _; rw [← hw1]; exact (Below.refl _ _).alloc (Nat.le_refl _) _
  have q1 : Box2 w1 w.heap.size 43 (.string x) (.string y) := by rw [← hw1]; exact Box2.new _ _ _ _
  have HQ : Hid (∀ W, Below w1.heap.size w1 W → Box2 W w.heap.size 43 (.string x) (.string y) ∧ Below w.heap.size w W) := fun W h => ⟨q1.stays h, HB1.out.trans (h.mono HB1.out.size)⟩
  clear q1
  have hta : ∀ w : World, (Instr.typeAssert (.iface 100 (.agg #[])) 69 82 true).run Tryz.prog w = .ok (.tuple #[.agg #[], .bool false]) w := fun w => assert_no Tryz.underlying82 (by kernel_rfl) (by decide) w
  go_enter Tryz.func36, Tryz.ntmps36
  go_wp2_with fail
  refine (lead_plain _).mono ?_
  rintro e w2 ⟨rfl, hb2⟩
  have HB2 : Hid (Below w1.heap.size w1 w2) := hb2
  clear hb2 hw1
  go_wp2_with fail
  refine (implPfx_good none 0 0 4 0 (i : Int) [] _ ⟨rfl, by simp, .inl rfl⟩ (by omega) (by decide) (by decide) (by decide)).mono ?_
  rintro e w3 ⟨a3, c3, rfl, ow3, hb3⟩
  have hmin : (min (i : Int) 16777216).toNat = i := by omega
  rw [hmin, List.nil_append] at ow3 ⊢
  clear hmin
  have HB3 : Hid (Below w1.heap.size w1 w3) := HB2.out.trans (hb3.mono HB2.out.size)
  have HO3 : Hid (Owns w3 w2.heap.size a3 (pfx 4 0 i).length c3 (pfx 4 0 i)) := ow3
  have hpl := pfx_len 4 0 i
  clear ow3 hb3
  generalize hP : pfx 4 0 i = P at *
  have HP : Hid (pfx 4 0 i = P) := hP
  clear hP
  generalize hpn : P.length = pn at *
  have HPn : Hid (P.length = pn) := hpn
  clear hpn
  obtain ⟨c0, c1, _, _⟩ := (HQ.out _ HB3.out).1.cells
  by_cases h0 : i = 0
  · subst h0
    go_wp2_with fail
    refine (implPutS_any a3 pn c3 x P _ HO3.out.seg (by omega) hx).mono ?_
    rintro e w4 ⟨p, a4, c4, hp, rfl, ow4, hb4⟩
    have HB4 : Hid (Below w1.heap.size w1 w4) := HB3.out.trans (hb4.mono HB3.out.size)
    have HO4 : Hid (Owns w4 w3.heap.size a4 (P ++ p).length c4 (P ++ p)) := ow4
    have hpl4 : (P ++ p).length ≤ 16777300 := by have := hp.len; rw [List.length_append, HPn.out]; omega
    have HS : Hid (StrOf x p) := hp
    clear hp ow4 hb4 c0 c1
    obtain ⟨c0, c1, _, _⟩ := (HQ.out _ HB4.out).1.cells
    generalize hR : P ++ p = R at *
    have HR : Hid (P ++ p = R) := hR
    clear hR
    generalize hrn : R.length = rn at *
    have HRn : Hid (R.length = rn) := hrn
    clear hrn
    go_wp2_with fail
    refine (implPutS_any a4 rn c4 y R _ HO4.out.seg (by omega) hy).mono ?_
    rintro e w5 ⟨v, a5, c5, hv, rfl, ow5, hb5⟩
    have HB5 : Hid (Below w1.heap.size w1 w5) := HB4.out.trans (hb5.mono HB4.out.size)
    have HO5 : Hid (Owns w5 w4.heap.size a5 (R ++ v).length c5 (R ++ v)) := ow5
    have HV : Hid (StrOf y v) := hv
    clear hv ow5 hb5 c0 c1
    go_wp2_with fail
    go_ret
    have hz : w.heap.size ≤ w4.heap.size := by have h1 := HB1.out.size; have h2 := HB4.out.size; omega
    exact ⟨R ++ v, a5, c5, ⟨p, v, .inl ⟨rfl, HS.out⟩, HV.out, by rw [HP.out, HR.out]⟩, by rw [List.length_append]; rfl, ⟨own_lower HO5.out.1 hz, HO5.out.2⟩, (HQ.out _ HB5.out).2⟩
  · have h0i : ((i : Int) == 0) = false := by simp; omega
    have h0j : ¬ (i : Int) = 0 := by omega
    go_wp2_with fail
    refine (implPutS_any a3 pn c3 y P _ HO3.out.seg (by omega) hy).mono ?_
    rintro e w4 ⟨v, a4, c4, hv, rfl, ow4, hb4⟩
    have HB4 : Hid (Below w1.heap.size w1 w4) := HB3.out.trans (hb4.mono HB3.out.size)
    have HO4 : Hid (Owns w4 w3.heap.size a4 (P ++ v).length c4 (P ++ v)) := ow4
    have HV : Hid (StrOf y v) := hv
    clear hv ow4 hb4 c0 c1
    go_wp2_with fail
    go_ret
    have hz : w.heap.size ≤ w3.heap.size := by have h1 := HB1.out.size; have h2 := HB3.out.size; omega
    exact ⟨P ++ v, a4, c4, ⟨[], v, .inr ⟨h0, rfl⟩, HV.out, by rw [HP.out, List.append_nil]⟩, by rw [List.length_append]; rfl, ⟨own_lower HO4.out.1 hz, HO4.out.2⟩, (HQ.out _ HB4.out).2⟩

end Go.Proofs.YtckpacifimpkgacGreat

namespace Go.Proofs.YtckpacifimpkgacGreat
open Go.RowKit
set_option linter.unusedVariables false

set_option maxHeartbeats 400000 in
theorem implOf4_any (x y : ByteArray) (w : World) (hx : x.size + y.size ≤ 2097152) : Calls Tryz.prog 50 #[.agg #[.string x, .string y]] w fun e w' => e = .returned (.int .i64 (x.size + y.size + 32)) ∧ Below w.heap.size w w' := by
  go_enter Tryz.func50, Tryz.ntmps50
  go_wp2
  go_ret
  exact ⟨rfl, (Below.refl _ _).alloc (Nat.le_refl _) _⟩

set_option maxHeartbeats 400000 in
theorem implSize_any (m : Int) (a : Option Addr) (len ca : Nat) (xs : List Fld) (w : World) (hx : Flds w a len xs) (hl : len + fldBytes xs ≤ 2097152) :
    Calls Tryz.prog 30 #[.agg #[.int .i64 m, .slice a len ca]] w fun e w' => e = .returned (.int .i64 (32 * len + fldBytes xs)) ∧ Below w.heap.size w w' := by
  have HX : Hid (Flds w a len xs) := hx
  clear hx
  go_enter Tryz.func30, Tryz.ntmps30
  go_wp2
  generalize hw1 : w.alloc (Obj.cells #[Value.int IntKind.i64 m, Value.slice a len ca] 26) = w1
  have HB1 : Hid (Below w.heap.size w w1) := by show Below _ _ _; rw [← hw1]; exact (Below.refl _ _).alloc (Nat.le_refl _) _
  clear hw1
  go_loopw [3, 9] (fun v i wr => ∃ (k : Nat) (u : Int), k ≤ len ∧ i = .int .i64 k ∧ v = .int .i64 u ∧ 0 ≤ u ∧ u ≤ 80000000 ∧ Hid (u = 32 * k + fldBytes (xs.take k)) ∧ Hid (Below w.heap.size w wr)) (fun _ i _ => len - (intOf i).toNat)
  case atStart => exact ⟨0, 0, Nat.zero_le _, rfl, rfl, by omega, by omega, by show _ = _; simp [fldBytes], HB1⟩
  case round =>
    obtain ⟨k, u, hk, rfl, rfl, hu0, hu1, HU, HW⟩ := hrel
    by_cases hlt : k < len
    · obtain ⟨ba, oa, x, y, rfl, hba, hfa, ha0, ha1⟩ := HX.out.at hlt
      have ga0 : wr.cell? ⟨ba, oa + k * 2, none⟩ = some (.string x) := (HW.out.cell (p := ⟨ba, _, none⟩) hba).trans ha0
      have ga1 : wr.cell? ⟨ba, oa + k * 2 + 1, none⟩ = some (.string y) := (HW.out.cell (p := ⟨ba, _, none⟩) hba).trans ha1
      have hst := fldBytes_step xs k x y hfa
      have hle := fldBytes_take xs (k + 1)
      have hxy : x.size + y.size ≤ 2097152 := by omega
      have HF : Hid (fldBytes (xs.take (k + 1)) = fldBytes (xs.take k) + (x.size + y.size) ∧ fldBytes (xs.take (k + 1)) ≤ fldBytes xs) := ⟨hst, hle⟩
      clear hfa ha0 ha1 hst hle
      have hki : (k : Int) < (len : Int) := by omega
      have hk0 : (0 : Int) ≤ (k : Int) := by omega
      go_wp2_with fail
      refine (implOf4_any x y _ hxy).mono ?_
      rintro e x3 ⟨rfl, hb3⟩
      have HB3 : Hid (Below w.heap.size w x3) := (HW.out.alloc HW.out.size _).trans (hb3.mono (by rw [World.size_alloc]; exact Nat.le_succ_of_le HW.out.size))
      clear hb3
      go_wp2
      go_roundw
      case rel =>
        have h1 := HU.out
        have h2 := HF.out
        exact ⟨k + 1, _, by omega, by go_num, rfl, by omega, by omega, by show _ = _; omega, HB3⟩
      case measure => simp [intOf]; omega
    · go_wp2
      go_ret
      have hkl : k = len := by omega
      have h3 := HU.out
      have h4 := HX.out.1
      rw [List.take_of_length_le (by omega)] at h3
      exact ⟨ret_int (by omega), HW.out⟩

end Go.Proofs.YtckpacifimpkgacGreat

namespace Go.Proofs.YtckpacifimpkgacGreat
open Go.RowKit
set_option linter.unusedVariables false

/-- The cells of a ring: the newest field in the slot p, each older one a slot further on. -/
structure RingC (cs : Array Value) (p : Nat) (fs : List Fld) : Prop where
  size : cs.size = 259
  lt : p < 128
  few : fs.length ≤ 128
  front : cs[256]? = some (.int .i64 (p : Int))
  count : cs[257]? = some (.int .i64 (fs.length : Int))
  sum : cs[258]? = some (.int .i64 (szL fs : Int))
  one : ∀ k, k < 256 → ∃ x, cs[k]? = some (.string x)
  slot : ∀ i (hi : i < fs.length), cs[(p + i) % 128 * 2]? = some (.string (fs[i]).1) ∧ cs[(p + i) % 128 * 2 + 1]? = some (.string (fs[i]).2)

theorem set_get (cs : Array Value) (k j : Nat) (v : Value) (hk : k < cs.size) : (cs.setIfInBounds k v)[j]? = if k = j then some v else cs[j]? := by
  rw [Array.getElem?_setIfInBounds]
  split
  · first | rfl | rw [if_pos hk]
  · rfl

theorem RingC.push {cs : Array Value} {p : Nat} {fs : List Fld} (r : RingC cs p fs) (hn : fs.length < 128) (x y : ByteArray) (q : Nat) (hq : (p + 127) % 128 = q) :
    RingC (((((cs.setIfInBounds 256 (.int .i64 (q : Int))).setIfInBounds (q * 2) (.string x)).setIfInBounds (q * 2 + 1) (.string y)).setIfInBounds 257 (.int .i64 ((fs.length : Int) + 1))).setIfInBounds 258 (.int .i64 ((szL fs : Int) + ((x.size : Int) + (y.size : Int) + 32)))) q ((x, y) :: fs) := by
  have hp := r.lt
  have hz := r.size
  have hq' : q < 128 := by omega
  have g : ∀ j, (((((cs.setIfInBounds 256 (.int .i64 (q : Int))).setIfInBounds (q * 2) (.string x)).setIfInBounds (q * 2 + 1) (.string y)).setIfInBounds 257 (.int .i64 ((fs.length : Int) + 1))).setIfInBounds 258 (.int .i64 ((szL fs : Int) + ((x.size : Int) + (y.size : Int) + 32))))[j]? =
      if 258 = j then some (.int .i64 ((szL fs : Int) + ((x.size : Int) + (y.size : Int) + 32))) else if 257 = j then some (.int .i64 ((fs.length : Int) + 1)) else if q * 2 + 1 = j then some (.string y) else if q * 2 = j then some (.string x) else if 256 = j then some (.int .i64 (q : Int)) else cs[j]? := by
    intro j
    rw [set_get _ _ _ _ (by simp; omega), set_get _ _ _ _ (by simp; omega), set_get _ _ _ _ (by simp; omega), set_get _ _ _ _ (by simp; omega), set_get _ _ _ _ (by omega)]
  refine ⟨by simp; omega, hq', by simp; omega, ?_, ?_, ?_, ?_, ?_⟩
  · rw [g, if_neg (by omega), if_neg (by omega), if_neg (by omega), if_neg (by omega), if_pos rfl]
  · rw [g, if_neg (by omega), if_pos rfl]
    simp
  · rw [g, if_pos rfl, szL_cons]
    congr 2
    simp only [Int.natCast_add]
    omega
  · intro k hk
    rw [g, if_neg (by omega), if_neg (by omega)]
    by_cases h1 : q * 2 + 1 = k
    · exact ⟨y, by rw [if_pos h1]⟩
    · rw [if_neg h1]
      by_cases h2 : q * 2 = k
      · exact ⟨x, by rw [if_pos h2]⟩
      · rw [if_neg h2, if_neg (by omega)]
        exact r.one k hk
  · intro i hi
    cases i with
    | zero =>
      have e : (q + 0) % 128 = q := by omega
      rw [e, g, g, if_neg (by omega), if_neg (by omega), if_neg (by omega), if_pos rfl, if_neg (by omega), if_neg (by omega), if_pos rfl]
      exact ⟨rfl, rfl⟩
    | succ i =>
      have hi' : i < fs.length := by simpa using hi
      have e : (q + (i + 1)) % 128 = (p + i) % 128 := by omega
      have e2 : (p + i) % 128 ≠ q := by omega
      have e3 : (p + i) % 128 < 128 := Nat.mod_lt _ (by omega)
      rw [e, g, g, if_neg (by omega), if_neg (by omega), if_neg (by omega), if_neg (by omega), if_neg (by omega), if_neg (by omega), if_neg (by omega), if_neg (by omega), if_neg (by omega), if_neg (by omega)]
      exact r.slot i hi'

/-- A ring in the block b. -/
def Ring (W : World) (b p : Nat) (fs : List Fld) : Prop := ∃ cs, W.heap[b]? = some (.cells cs 143 (0, 0)) ∧ RingC cs p fs

theorem Ring.lt {W : World} {b p : Nat} {fs : List Fld} (h : Ring W b p fs) : b < W.heap.size := by
  obtain ⟨cs, h, _⟩ := h
  exact (Array.getElem?_eq_some_iff.1 h).1

theorem Ring.stays {W W' : World} {b p : Nat} {fs : List Fld} (h : Ring W b p fs) (hb : Below W.heap.size W W') : Ring W' b p fs := by
  have hl := h.lt
  obtain ⟨cs, h, r⟩ := h
  exact ⟨cs, (hb.block b hl).trans h, r⟩

theorem Ring.kept {W W' : World} {b p : Nat} {fs : List Fld} {row : Option Nat} (h : Ring W b p fs) (hg : W.grownBy W' row) (hne : some b ≠ row) : Ring W' b p fs := by
  have hl := h.lt
  obtain ⟨cs, h, r⟩ := h
  exact ⟨cs, (hg.block b hl hne).trans h, r⟩

/-- A world that has grown from w, but for the block b, which has these cells. -/
structure RG (w : World) (b : Nat) (cs : Array Value) (W : World) : Prop where
  block : W.heap[b]? = some (.cells cs 143 (0, 0))
  grown : w.grownBy W (some b)

theorem RG.cell {w W : World} {b : Nat} {cs : Array Value} (h : RG w b cs W) {k : Nat} {v : Value} (hk : cs[k]? = some v) : W.cell? ⟨b, k, none⟩ = some v := (cell_of_row _ _ _ _ _ _ h.block).trans hk
theorem RG.free {w W : World} {b : Nat} {cs : Array Value} (h : RG w b cs W) (k : Nat) : W.frozen? ⟨b, k, none⟩ = false := by
  have := h.block
  simp [World.frozen?, this]
theorem RG.set {w W : World} {b : Nat} {cs : Array Value} (h : RG w b cs W) (k : Nat) (v : Value) : RG w b (cs.setIfInBounds k v) (W.setCell ⟨b, k, none⟩ v) := by
  refine ⟨?_, h.grown.os, h.grown.tape, h.grown.output, ?_, fun q hq hne => ?_⟩
  · rw [setCell_eq_setRow W b k cs _ (0, 0) _ h.block, setRow_heap W b cs _ _ (0, 0) h.block]
  · have : (W.setCell ⟨b, k, none⟩ v).heap.size = W.heap.size := by simp [World.setCell]
    rw [this]
    exact h.grown.size
  · rw [set_block_other _ _ _ _ _ (fun e => hne (by rw [e]))]
    exact h.grown.block q hq hne
theorem RG.drew {w W : World} {b : Nat} {cs : Array Value} (h : RG w b cs W) : RG w b cs W.drew := ⟨h.block, h.grown.os, h.grown.tape, h.grown.output, h.grown.size, h.grown.block⟩
theorem RG.stays {w W W' : World} {b : Nat} {cs : Array Value} (h : RG w b cs W) (hb : Below W.heap.size W W') : RG w b cs W' :=
  ⟨(hb.block b (Array.getElem?_eq_some_iff.1 h.block).1).trans h.block, hb.os.trans h.grown.os, hb.tape.trans h.grown.tape, hb.output.trans h.grown.output, Nat.le_trans h.grown.size hb.size, fun q hq hne => (hb.block q (Nat.lt_of_lt_of_le hq h.grown.size)).trans (h.grown.block q hq hne)⟩
theorem RG.alloc {w W : World} {b : Nat} {cs : Array Value} (h : RG w b cs W) (o : Obj) : RG w b cs (W.alloc o) := h.stays ((Below.refl _ _).alloc (Nat.le_refl _) _)
theorem RG.refl {w : World} {b : Nat} {cs : Array Value} (h : w.heap[b]? = some (.cells cs 143 (0, 0))) : RG w b cs w := ⟨h, rfl, rfl, rfl, Nat.le_refl _, fun _ _ _ => rfl⟩

theorem Box2.set_other {W : World} {b g : Nat} {t : TypeId} {x y : Value} (h : Box2 W b t x y) (k : Nat) (v : Value) (hne : b ≠ g) : Box2 (W.setCell ⟨g, k, none⟩ v) b t x y := (set_block_other _ _ _ _ _ hne).trans h

set_option maxHeartbeats 400000 in
theorem slot_any (b p k : Nat) (w : World) (hc : w.cell? ⟨b, 256, none⟩ = some (.int .i64 (p : Int))) (hf : p < 128) (hk : k ≤ 128) :
    Calls Tryz.prog 95 #[.pointer (some ⟨b, 0, none⟩), .int .i64 (k : Int)] w fun e w' => e = .returned (.int .i64 (((p + k) % 128 : Nat) : Int)) ∧ w' = w := by
  have hfi : (p : Int) < 128 := by omega
  have hki : (k : Int) ≤ 128 := by omega
  go_enter Tryz.func95, Tryz.ntmps95
  go_wp2
  go_ret
  exact ⟨ret_int (by omega), rfl⟩

set_option maxRecDepth 10000 in
set_option maxHeartbeats 1600000 in
theorem push_any (b p : Nat) (fs : List Fld) (x y : ByteArray) (w : World) (h : Ring w b p fs) (hn : fs.length < 128) (hs : szL fs ≤ 100000) (hxy : x.size + y.size ≤ 100000) :
    Calls Tryz.prog 81 #[.pointer (some ⟨b, 0, none⟩), .agg #[.string x, .string y]] w fun e w' => ∃ v, e = .returned v ∧ Ring w' b ((p + 127) % 128) ((x, y) :: fs) ∧ w.grownBy w' (some b) := by
  obtain ⟨cs, hcs, r⟩ := h
  have hbl : b < w.heap.size := (Array.getElem?_eq_some_iff.1 hcs).1
  obtain ⟨q, hq⟩ : ∃ q, (p + 127) % 128 = q := ⟨_, rfl⟩
  have hq' : q < 128 := by omega
  have HRC := r.push hn x y q hq
  rw [hq]
  have g0 := (RG.refl hcs).alloc (.cells #[.string x, .string y] 43)
  have HP := slot_any b p 127 _ (g0.cell r.front) r.lt (by omega)
  rw [hq] at HP
  have HP' : Hid (Calls Tryz.prog 95 #[.pointer (some ⟨b, 0, none⟩), .int .i64 127] (w.alloc (Obj.cells #[Value.string x, Value.string y] 43)) fun e w' => e = .returned (.int .i64 ((q : Nat) : Int)) ∧ w' = w.alloc (Obj.cells #[Value.string x, Value.string y] 43)) := HP
  have c0 := g0.cell r.front
  have f0 := g0.free 256
  have HRC' : Hid (RingC (((((cs.setIfInBounds 256 (.int .i64 (q : Int))).setIfInBounds (q * 2) (.string x)).setIfInBounds (q * 2 + 1) (.string y)).setIfInBounds 257 (.int .i64 ((fs.length : Int) + 1))).setIfInBounds 258 (.int .i64 ((szL fs : Int) + ((x.size : Int) + (y.size : Int) + 32)))) q ((x, y) :: fs)) := HRC
  have HR : Hid (RingC cs p fs) := r
  have HCS : Hid (w.heap[b]? = some (.cells cs 143 (0, 0))) := hcs
  clear HP HRC r g0 hcs
  have hqi : (q : Int) < 128 := by omega
  go_enter Tryz.func81, Tryz.ntmps81
  go_wp2_with fail
  refine HP'.out.mono ?_
  rintro e w1 ⟨rfl, rfl⟩
  go_wp2_with fail
  obtain ⟨V1, hV1⟩ : ∃ V1, (w.setCell ⟨b, 256, none⟩ (.int .i64 (q : Int))).alloc (Obj.cells #[Value.string x, Value.string y] 43) = V1 := ⟨_, rfl⟩
  have G1 : RG w b (cs.setIfInBounds 256 (.int .i64 (q : Int))) V1 := by rw [← hV1]; exact ((RG.refl HCS.out).set _ _).alloc _
  have Q1 : Box2 V1 w.heap.size 43 (.string x) (.string y) := by
    rw [← hV1]
    have := Box2.new (w.setCell ⟨b, 256, none⟩ (.int .i64 (q : Int))) 43 (.string x) (.string y)
    simpa using this
  have hz := HR.out.size
  obtain ⟨u0, hu0⟩ := HR.out.one (q * 2) (by omega)
  obtain ⟨u1, hu1⟩ := HR.out.one (q * 2 + 1) (by omega)
  rw [hV1]
  have d0 := G1.cell (k := 256) (v := .int .i64 (q : Int)) (by rw [set_get _ _ _ _ (by omega), if_pos rfl])
  have d1 := G1.cell (k := q * 2) (v := .string u0) (by rw [set_get _ _ _ _ (by omega), if_neg (by omega)]; exact hu0)
  have d2 := G1.cell (k := q * 2 + 1) (v := .string u1) (by rw [set_get _ _ _ _ (by omega), if_neg (by omega)]; exact hu1)
  have e1 := G1.free (q * 2)
  have e2 := G1.free (q * 2 + 1)
  obtain ⟨x0, x1, _, _⟩ := Q1.cells
  clear c0 f0 hV1 hu0 hu1
  go_region
  obtain ⟨V2, hV2⟩ : ∃ V2, ((V1.setCell ⟨b, q * 2, none⟩ (.string x)).setCell ⟨b, q * 2 + 1, none⟩ (.string y)).drew = V2 := ⟨_, rfl⟩
  have G2 : RG w b (((cs.setIfInBounds 256 (.int .i64 (q : Int))).setIfInBounds (q * 2) (.string x)).setIfInBounds (q * 2 + 1) (.string y)) V2 := by rw [← hV2]; exact ((G1.set _ _).set _ _).drew
  have Q2 : Box2 V2 w.heap.size 43 (.string x) (.string y) := by rw [← hV2]; exact (Q1.set_other _ _ (by omega)).set_other _ _ (by omega)
  rw [hV2]
  have hg : ∀ j, 256 < j → (((cs.setIfInBounds 256 (.int .i64 (q : Int))).setIfInBounds (q * 2) (.string x)).setIfInBounds (q * 2 + 1) (.string y))[j]? = cs[j]? := by
    intro j hj
    rw [set_get _ _ _ _ (by simp; omega), if_neg (by omega), set_get _ _ _ _ (by simp; omega), if_neg (by omega), set_get _ _ _ _ (by omega), if_neg (by omega)]
  have k1 := G2.cell (k := 257) (v := .int .i64 (fs.length : Int)) ((hg 257 (by omega)).trans HR.out.count)
  have k2 := G2.cell (k := 258) (v := .int .i64 (szL fs : Int)) ((hg 258 (by omega)).trans HR.out.sum)
  have m1 := G2.free 257
  have hni : (fs.length : Int) < 128 := by omega
  have HSum : Hid ((((cs.setIfInBounds 256 (.int .i64 (q : Int))).setIfInBounds (q * 2) (.string x)).setIfInBounds (q * 2 + 1) (.string y)).size = 259 ∧ (((cs.setIfInBounds 256 (.int .i64 (q : Int))).setIfInBounds (q * 2) (.string x)).setIfInBounds (q * 2 + 1) (.string y))[258]? = some (.int .i64 (szL fs : Int))) := ⟨by simp; omega, (hg 258 (by omega)).trans HR.out.sum⟩
  clear hV2 d0 d1 d2 e1 e2 x0 x1 G1 Q1 hg
  generalize (((cs.setIfInBounds 256 (.int .i64 (q : Int))).setIfInBounds (q * 2) (.string x)).setIfInBounds (q * 2 + 1) (.string y)) = c2 at *
  go_wp2_with fail
  obtain ⟨V3, hV3⟩ : ∃ V3, V2.setCell ⟨b, 257, none⟩ (.int .i64 ((fs.length : Int) + 1)) = V3 := ⟨_, rfl⟩
  have G3 : RG w b (c2.setIfInBounds 257 (.int .i64 ((fs.length : Int) + 1))) V3 := by rw [← hV3]; exact G2.set _ _
  have Q3 : Box2 V3 w.heap.size 43 (.string x) (.string y) := by rw [← hV3]; exact Q2.set_other _ _ (by omega)
  rw [hV3]
  have j2 : (c2.setIfInBounds 257 (.int .i64 ((fs.length : Int) + 1)))[258]? = some (.int .i64 (szL fs : Int)) := by
    rw [set_get _ _ _ _ (by rw [HSum.out.1]; omega), if_neg (by omega)]
    exact HSum.out.2
  have l2 := G3.cell j2
  obtain ⟨y0, y1, _, _⟩ := Q3.cells
  clear hV3 k1 k2 m1 G2 Q2
  have hsi : (szL fs : Int) ≤ 100000 := by omega
  have hxi : (x.size : Int) + (y.size : Int) ≤ 100000 := by omega
  go_region_with (first
    | (go_at_call 50; refine (implOf4_any x y _ (by omega)).mono ?_; rintro e V4 ⟨rfl, hb4⟩; have G4 := G3.drew.stays hb4; have n2 := G4.cell j2; have n3 := G4.free 258))
  all_goals
    have G5 := G4.set 258 (.int .i64 ((szL fs : Int) + ((x.size : Int) + (y.size : Int) + 32)))
    clear hb4 G3 Q3 l2 y0 y1 n2 n3
    go_wp2_with fail
    go_end0
    have hwr : IntKind.i64.wrap ((szL fs : Int) + ((x.size : Int) + (y.size : Int) + 32)) = (szL fs : Int) + ((x.size : Int) + (y.size : Int) + 32) := by simp [IntKind.wrap, go_sem]; omega
    rw [hwr]
    exact ⟨_, rfl, ⟨_, G5.block, HRC'.out⟩, G5.grown⟩

end Go.Proofs.YtckpacifimpkgacGreat
