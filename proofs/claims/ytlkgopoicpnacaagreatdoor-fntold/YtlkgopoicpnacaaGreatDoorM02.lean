/- Variables of four cells; rows that a call has made, lower. No program in it. -/
import Derived.Test.YtlkgopoicpnacaaGreatDoorM01
import Derived.Laws.Tables
import Derived.OneCell
namespace Go.Proofs.YtlkgopoicpnacaaGreatDoor
open Go.RowKit
set_option linter.unusedVariables false

/-- A variable of four cells. -/
def Box4 (W : World) (b : Nat) (t : TypeId) (x y z u : Value) : Prop := W.heap[b]? = some (.cells #[x, y, z, u] t (0, 0))

theorem Box4.lt {W : World} {b : Nat} {t : TypeId} {x y z u : Value} (h : Box4 W b t x y z u) : b < W.heap.size := (Array.getElem?_eq_some_iff.1 h).1

theorem Box4.stays {W W' : World} {b : Nat} {t : TypeId} {x y z u : Value} (h : Box4 W b t x y z u) (hb : Below W.heap.size W W') : Box4 W' b t x y z u := (hb.block b h.lt).trans h

theorem Box4.alloc {W : World} {b : Nat} {t : TypeId} {x y z u : Value} (h : Box4 W b t x y z u) (o : Obj) : Box4 (W.alloc o) b t x y z u := by
  have hl := h.lt
  show (W.heap.push o)[b]? = _
  rw [Array.getElem?_push, if_neg (by omega)]
  exact h

theorem Box4.new (W : World) (t : TypeId) (x y z u : Value) : Box4 (W.alloc (.cells #[x, y, z, u] t)) W.heap.size t x y z u := heap_alloc_new W _

theorem Box4.cells {W : World} {b : Nat} {t : TypeId} {x y z u : Value} (h : Box4 W b t x y z u) : W.cell? ⟨b, 0, none⟩ = some x ∧ W.cell? ⟨b, 1, none⟩ = some y ∧ W.cell? ⟨b, 2, none⟩ = some z ∧ W.cell? ⟨b, 3, none⟩ = some u := by
  refine ⟨?_, ?_, ?_, ?_⟩ <;> (rw [cell_of_row _ _ _ _ _ _ h]; rfl)

theorem Box4.frozen {W : World} {b : Nat} {t : TypeId} {x y z u : Value} (h : Box4 W b t x y z u) (i : Nat) : W.frozen? ⟨b, i, none⟩ = false := by simp [World.frozen?, show W.heap[b]? = _ from h]

theorem Box4.grown {W W' : World} {b : Nat} {t : TypeId} {x y z u : Value} {r : Option Nat} (h : Box4 W b t x y z u) (hg : W.grownBy W' r) (hr : r ≠ some b) : Box4 W' b t x y z u := (hg.block b h.lt (Ne.symm hr)).trans h

theorem Box4.drewN {W : World} {b : Nat} {t : TypeId} {x y z u : Value} (h : Box4 W b t x y z u) (n : Nat) : Box4 (W.drewN n) b t x y z u := h

theorem own_low {w : World} {base b' size n : Nat} {e : TypeId} {v : Value} {xs : List Value} (h : w.ownsRow base e size v n xs) (hb : b' ≤ base) : w.ownsRow b' e size v n xs := by
  refine ⟨h.1, ?_⟩
  rcases h.2 with h0 | ⟨g, cap, cur, he, hg, r⟩
  · exact .inl h0
  · exact .inr ⟨g, cap, cur, he, by omega, r⟩

theorem Owns.low {w : World} {base b' n cap : Nat} {a : Option Addr} {zs : List Int} (h : Owns w base a n cap zs) (hb : b' ≤ base) : Owns w b' a n cap zs := ⟨own_low h.1 hb, h.2⟩

theorem Owns.grown {w w' : World} {base n cap : Nat} {a : Option Addr} {zs : List Int} {r : Option Nat} (h : Owns w base a n cap zs) (hg : w.grownBy w' r) (hr : ∀ k, r = some k → a.map (·.block) ≠ some k) : Owns w' base a n cap zs := by
  refine ⟨h.1.kept hg ?_, h.2⟩
  have eb : (Value.slice a n cap).ownBlock = a.map (·.block) := by cases a <;> rfl
  rw [eb]
  cases e : a.map (·.block) with
  | none => exact .inl rfl
  | some k => exact .inr (fun h => hr k h.symm e)

/-- A block of another kind is not the row's. -/
theorem Owns.other {w : World} {base n cap : Nat} {a : Option Addr} {zs : List Int} (h : Owns w base a n cap zs) {p : Nat} {cs : Array Value} {t : TypeId} {fr : Nat × Nat} (hp : w.heap[p]? = some (.cells cs t fr)) (ht : t ≠ 5) : a.map (·.block) ≠ some p := by
  rcases h.1.2 with ⟨he, _⟩ | ⟨g, cap', cur, he, _, hg, _⟩
  · injection he with e1 _ _
    subst e1
    simp
  · injection he with e1 _ _
    subst e1
    intro e
    simp only [Option.map_some, Option.some.injEq] at e
    subst e
    rw [hg] at hp
    injection hp with hp
    injection hp with _ h2 _
    exact ht h2.symm

end Go.Proofs.YtlkgopoicpnacaaGreatDoor
