/- A client in a variable, its row anywhere from lo on and below hi, but not in the variable's own block. -/
import Derived.Test.YtlalebaaabdihaxBoxN
namespace Go.Proofs.Ytlalebaaabdihax
open Go.RowKit
set_option linter.unusedVariables false

def CV (W : World) (lo hi b : Nat) (id : ByteArray) (a : Option Addr) (n c : Nat) (zs : List Int) (st off : Int) : Prop :=
  BoxN W b 30 [.string id, .slice a n c, .int .i64 st, .int .i64 off] ∧ Owns W lo a n c zs ∧ lo ≤ b ∧ b < hi ∧ ∀ q, a.map (·.block) = some q → q ≠ b ∧ q < hi

/-- A row of bytes is no variable of a client. -/
theorem row_apart {W : World} {lo b n c : Nat} {a : Option Addr} {zs : List Int} {vs : List Value} (o : Owns W lo a n c zs) (h : BoxN W b 30 vs) : ∀ q, a.map (·.block) = some q → q ≠ b := by
  intro q hq e
  subst e
  rcases o.1.2 with ⟨e, _⟩ | ⟨g, cap, cur, e, _, hg, _⟩
  · injection e with e1 e2 e3
    rw [e1] at hq
    cases hq
  · injection e with e1 e2 e3
    rw [e1] at hq
    injection hq with hq
    subst hq
    have h1 : W.heap[g]? = some (.cells vs.toArray 30 (0, 0)) := h
    rw [h1] at hg
    injection hg with hg
    injection hg with _ h2 _
    exact absurd h2 (by decide)

section
variable {W W' : World} {lo hi b : Nat} {id : ByteArray} {a : Option Addr} {n c : Nat} {zs : List Int} {st off : Int}

theorem CV.stays (h : CV W lo hi b id a n c zs st off) (hb : Below W.heap.size W W') : CV W' lo hi b id a n c zs st off := ⟨h.1.stays hb, h.2.1.below hb, h.2.2⟩

theorem CV.mk' (h : BoxN W b 30 [.string id, .slice a n c, .int .i64 st, .int .i64 off]) (o : Owns W lo a n c zs) (hlo : lo ≤ b) : CV W lo W.heap.size b id a n c zs st off :=
  ⟨h, o, hlo, h.lt, fun q e => ⟨row_apart o h q e, (o.lt q e).2⟩⟩

theorem CV.new (o : Owns W lo a n c zs) (hlo : lo ≤ W.heap.size) : CV (W.alloc (.cells #[.string id, .slice a n c, .int .i64 st, .int .i64 off] 30)) lo (W.heap.size + 1) W.heap.size id a n c zs st off := by
  have h := CV.mk' (BoxN.new W 30 [.string id, .slice a n c, .int .i64 st, .int .i64 off]) (o.below ((Below.refl _ _).alloc (Nat.le_refl _) _)) hlo
  rw [World.size_alloc] at h
  exact h

/-- Written into a variable that is there. -/
theorem CV.put {vs : List Value} {v0 v1 v2 v3 : Value} (h : BoxN W b 30 [v0, v1, v2, v3]) (o : Owns W lo a n c zs) (hlo : lo ≤ b) :
    CV ((((W.setCell ⟨b, 0, none⟩ (.string id)).setCell ⟨b, 1, none⟩ (.slice a n c)).setCell ⟨b, 2, none⟩ (.int .i64 st)).setCell ⟨b, 3, none⟩ (.int .i64 off)) lo W.heap.size b id a n c zs st off := by
  have ha := row_apart o h
  have hne : a.map (·.block) ≠ some b := fun e => ha b e rfl
  have h1 : BoxN ((((W.setCell ⟨b, 0, none⟩ (.string id)).setCell ⟨b, 1, none⟩ (.slice a n c)).setCell ⟨b, 2, none⟩ (.int .i64 st)).setCell ⟨b, 3, none⟩ (.int .i64 off)) b 30 [.string id, .slice a n c, .int .i64 st, .int .i64 off] := (((h.set 0 _).set 1 _).set 2 _).set 3 _
  exact ⟨h1, owns_set (owns_set (owns_set (owns_set o hne) hne) hne) hne, hlo, h.lt, fun q e => ⟨ha q e, (o.lt q e).2⟩⟩

theorem CV.up (h : CV W lo hi b id a n c zs st off) {hi' : Nat} (hh : hi ≤ hi') : CV W lo hi' b id a n c zs st off := ⟨h.1, h.2.1, h.2.2.1, Nat.lt_of_lt_of_le h.2.2.2.1 hh, fun q e => ⟨(h.2.2.2.2 q e).1, Nat.lt_of_lt_of_le (h.2.2.2.2 q e).2 hh⟩⟩

theorem CV.row (h : CV W lo hi b id a n c zs st off) : ∀ q, a.map (·.block) = some q → lo ≤ q ∧ q < hi ∧ q ≠ b := fun q e => ⟨(h.2.1.lt q e).1, (h.2.2.2.2 q e).2, (h.2.2.2.2 q e).1⟩

theorem CV.kept {r : Option Nat} (h : CV W lo hi b id a n c zs st off) (hg : W.grownBy W' r) (hr : ∀ q, r = some q → q < lo ∨ hi ≤ q) : CV W' lo hi b id a n c zs st off := by
  have r1 := h.row
  have h1 := h.2.2.1
  have h2 := h.2.2.2.1
  refine ⟨h.1.grown hg (fun e => by have := hr _ e; omega), ⟨h.2.1.1.kept hg ?_, h.2.1.2⟩, h.2.2⟩
  cases a with
  | none => exact .inl rfl
  | some p =>
    refine .inr fun e => ?_
    have := hr p.block (by rw [← e]; rfl)
    have := r1 p.block rfl
    omega

theorem CV.marked {k : List Int} (h : CV W lo hi b id a n c zs st off) (o : Owns W' lo a n c k) (hg : W.grownBy W' (a.map (·.block))) : CV W' lo hi b id a n c k st off :=
  ⟨h.1.grown hg (fun e => (h.row _ e).2.2 rfl), o, h.2.2⟩
end

end Go.Proofs.Ytlalebaaabdihax
