/- A copy of a disk in a variable, beside the disk and a variable for the answer. No statement of the program but its table of types. -/
import Derived.Test.YtpjldfpipchmjavGreatDoorM22
namespace Go.Proofs.YtpjldfpipchmjavGreatDoor
open Go.RowKit
set_option linter.unusedVariables false

def DOut (w W : World) (d d' : Value) (o : Nat) (v v' : Value) (k k' : Nat) (X Y : List ByteArray) : Prop :=
  Box2R W w.heap.size 33 d d' ∧ Box2R W (w.heap.size + 1) 33 (.slice none 0 0) (.slice none 0 0) ∧ Box2R W o 33 v v' ∧
  OwnSt W (w.heap.size + 2) v k X ∧ OwnSt W (w.heap.size + 2) v' k' Y ∧ (∀ q, blkOf v = some q → q < o ∧ blkOf v' ≠ some q) ∧ (∀ q, blkOf v' = some q → q < o) ∧ w.heap.size + 2 ≤ o ∧ Below w.heap.size w W

section
variable {w W W' : World} {d d' v v' : Value} {o k k' : Nat} {X Y : List ByteArray}

theorem DOut.stays (h : DOut w W d d' o v v' k k' X Y) (hb : Below W.heap.size W W') : DOut w W' d d' o v v' k k' X Y := by
  obtain ⟨h1, h2, h3, h4, h5, h6, h7, h8, h9⟩ := h
  exact ⟨h1.stays hb, h2.stays hb, h3.stays hb, h4.below hb, h5.below hb, h6, h7, h8, h9.trans (hb.mono h9.size)⟩

theorem DOut.new {x : World} (h1 : Box2R W w.heap.size 33 d d') (h2 : Box2R W (w.heap.size + 1) 33 (.slice none 0 0) (.slice none 0 0)) (hz : W.heap.size = w.heap.size + 2) (hb : Below w.heap.size w W) (hx : Below W.heap.size W x)
    (o1 : OwnSt x W.heap.size v k X) (o2 : OwnSt x W.heap.size v' k' Y) (hne : ∀ q, blkOf v = some q → blkOf v' ≠ some q) : DOut w (x.alloc (.cells #[v, v'] 33)) d d' x.heap.size v v' k k' X Y := by
  have ha := (Below.refl x.heap.size x).alloc (Nat.le_refl _) (.cells #[v, v'] 33)
  have hxs := hx.size
  refine ⟨(h1.stays hx).alloc _, (h2.stays hx).alloc _, Box2R.new _ _ _ _, (o1.below ha).low (by omega), (o2.below ha).low (by omega), fun q e => ⟨(o1.lt q e).2, hne q e⟩, fun q e => (o2.lt q e).2, by omega, ?_⟩
  have hbx := hb.trans (hx.mono hb.size)
  exact hbx.alloc hbx.size _

/-- One text of the first row is written. -/
theorem DOut.put0 {g c j : Nat} (h : DOut w W d d' o (.slice (some ⟨g, 0, none⟩) k c) v' k k' X Y) (x : ByteArray) (hx : x.size ≤ maxLen) : DOut w (W.setCell ⟨g, j, none⟩ (.string x)) d d' o (.slice (some ⟨g, 0, none⟩) k c) v' k k' (X.set j x) Y := by
  obtain ⟨h1, h2, h3, h4, h5, h6, h7, h8, h9⟩ := h
  have hg := (h4.lt g rfl).1
  have hgo := (h6 g rfl).1
  have hst := (h4.1.stored j (.string x)).1
  rw [scells_set] at hst
  refine ⟨h1.other (by omega) _, h2.other (by omega) _, h3.other (by omega) _, ⟨hst, fun y hy => ?_⟩, h5.setCell (h6 g rfl).2 _, h6, h7, h8, h9.setCell (by dsimp only; omega) _⟩
  rcases List.mem_or_eq_of_mem_set hy with hy | rfl
  · exact h4.2 y hy
  · exact hx

/-- One text of the second row is written. -/
theorem DOut.put1 {g c j : Nat} (h : DOut w W d d' o v (.slice (some ⟨g, 0, none⟩) k' c) k k' X Y) (x : ByteArray) (hx : x.size ≤ maxLen) : DOut w (W.setCell ⟨g, j, none⟩ (.string x)) d d' o v (.slice (some ⟨g, 0, none⟩) k' c) k k' X (Y.set j x) := by
  obtain ⟨h1, h2, h3, h4, h5, h6, h7, h8, h9⟩ := h
  have hg := (h5.lt g rfl).1
  have hgo := h7 g rfl
  have hst := (h5.1.stored j (.string x)).1
  rw [scells_set] at hst
  refine ⟨h1.other (by omega) _, h2.other (by omega) _, h3.other (by omega) _, h4.setCell (fun e => (h6 g e).2 rfl) _, ⟨hst, fun y hy => ?_⟩, h6, h7, h8, h9.setCell (by dsimp only; omega) _⟩
  rcases List.mem_or_eq_of_mem_set hy with hy | rfl
  · exact h5.2 y hy
  · exact hx

/-- The copy is the answer. -/
theorem DOut.done {A A' : Option Addr} {c c' : Nat} (h : DOut w W d d' o (.slice A k c) (.slice A' k' c') k k' X Y) : AnsD w.heap.size X Y (.agg #[.slice A k c, .slice A' k' c']) ((W.setCell ⟨w.heap.size + 1, 0, none⟩ (.slice A k c)).setCell ⟨w.heap.size + 1, 1, none⟩ (.slice A' k' c')) ∧ Below w.heap.size w ((W.setCell ⟨w.heap.size + 1, 0, none⟩ (.slice A k c)).setCell ⟨w.heap.size + 1, 1, none⟩ (.slice A' k' c')) := by
  obtain ⟨h1, h2, h3, h4, h5, h6, h7, h8, h9⟩ := h
  have n0 : blkOf (.slice A k c) ≠ some (w.heap.size + 1) := fun e => by have := (h4.lt _ e).1; omega
  have n1 : blkOf (.slice A' k' c') ≠ some (w.heap.size + 1) := fun e => by have := (h5.lt _ e).1; omega
  refine ⟨AnsD.mk' h4.len h5.len (((h4.setCell n0 _).setCell n0 _).low (by omega)) (((h5.setCell n1 _).setCell n1 _).low (by omega)) (fun q e e2 => ?_), (h9.setCell (by dsimp only; omega) _).setCell (by dsimp only; omega) _⟩
  refine (h6 q ?_).2 ?_
  · cases A <;> simp_all [blkOf]
  · cases A' <;> simp_all [blkOf]
end

end Go.Proofs.YtpjldfpipchmjavGreatDoor
