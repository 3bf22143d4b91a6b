/- A disk in a variable of a draw's: its rows are of its own, apart from each other, the variable and the answer's. No program in it but its table of types. -/
import Derived.Test.YtnbmlkkjgecigaeDskAns
import Derived.Test.YtnbmlkkjgecigaeDrawsC
namespace Go.Proofs.Ytnbmlkkjgecigae
open Go.RowKit
set_option linter.unusedVariables false

def DV (w W : World) (b : Nat) (A : Option Addr) (n C : Nat) (A' : Option Addr) (n' C' : Nat) (X Y : List ByteArray) : Prop :=
  Box2R W b 26 (.slice A n C) (.slice A' n' C') ∧ Box2R W w.heap.size 26 (.slice none 0 0) (.slice none 0 0) ∧ OwnSt W (w.heap.size + 1) (.slice A n C) n X ∧ OwnSt W (w.heap.size + 1) (.slice A' n' C') n' Y ∧
  (∀ q, A.map (·.block) = some q → q ≠ b ∧ A'.map (·.block) ≠ some q) ∧ (∀ q, A'.map (·.block) = some q → q ≠ b) ∧ w.heap.size < b

theorem blkOf_sV (a : Option Addr) (n c : Nat) : blkOf (.slice a n c) = a.map (·.block) := by cases a <;> rfl

/-- Some disk of at most k sectors, in memory of its own. -/
def DrawnD (base k : Nat) (v : Value) (w' : World) : Prop := ∃ X Y, AnsD base X Y v w' ∧ X.length ≤ k ∧ Y.length ≤ k

theorem AnsD.at {base n n' : Nat} {X Y : List ByteArray} {v : Value} {w' : World} (h : AnsD base X Y v w') (hX : X.length = n) (hY : Y.length = n') : ∃ A C A' C', v = .agg #[.slice A n C, .slice A' n' C'] ∧ OwnSt w' base (.slice A n C) n X ∧ OwnSt w' base (.slice A' n' C') n' Y ∧ ∀ q, A.map (·.block) = some q → A'.map (·.block) ≠ some q := by
  subst hX hY
  exact h

section
variable {w W W' : World} {b n n' C C' : Nat} {A A' : Option Addr} {X Y : List ByteArray}

theorem DV.grown (h : DV w W b A n C A' n' C' X Y) {r : Option Nat} (hg : W.grownBy W' r) (hr : ∀ q, r = some q → q < w.heap.size) : DV w W' b A n C A' n' C' X Y := by
  obtain ⟨h1, h2, h3, h4, h5, h6, h7⟩ := h
  refine ⟨h1.grown hg (fun e => by have := hr _ e; omega), h2.grown hg (fun e => by have := hr _ e; omega), h3.kept hg (fun q e e2 => ?_), h4.kept hg (fun q e e2 => ?_), h5, h6, h7⟩
  · have := hr q e
    have := (h3.lt q e2).1
    omega
  · have := hr q e
    have := (h4.lt q e2).1
    omega

theorem DV.stays (h : DV w W b A n C A' n' C' X Y) (hb : Below W.heap.size W W') : DV w W' b A n C A' n' C' X Y := h.grown (gbelow hb none) (by simp)

/-- The disk is assigned an answer. -/
theorem DV.assign (h : DV w W b A n C A' n' C' X Y) (hb : Below W.heap.size W W') {B B' : Option Addr} {m m' D D' : Nat} {X' Y' : List ByteArray} (o1 : OwnSt W' W.heap.size (.slice B m D) m X') (o2 : OwnSt W' W.heap.size (.slice B' m' D') m' Y') (hne : ∀ q, B.map (·.block) = some q → B'.map (·.block) ≠ some q) :
    DV w ((W'.setCell ⟨b, 0, none⟩ (.slice B m D)).setCell ⟨b, 1, none⟩ (.slice B' m' D')) b B m D B' m' D' X' Y' := by
  obtain ⟨h1, h2, h3, h4, h5, h6, h7⟩ := h
  have hlt := h1.lt
  have e1 : ∀ q, B.map (·.block) = some q → W.heap.size ≤ q := fun q e => (o1.lt q (by rw [blkOf_sV]; exact e)).1
  have e2 : ∀ q, B'.map (·.block) = some q → W.heap.size ≤ q := fun q e => (o2.lt q (by rw [blkOf_sV]; exact e)).1
  have n1 : blkOf (.slice B m D) ≠ some b := fun e => by rw [blkOf_sV] at e; have := e1 _ e; omega
  have n2 : blkOf (.slice B' m' D') ≠ some b := fun e => by rw [blkOf_sV] at e; have := e2 _ e; omega
  refine ⟨((h1.stays hb).set0 _).set1 _, ((h2.stays hb).other (by omega) _).other (by omega) _, ((o1.setCell n1 _).setCell n1 _).low (by omega), ((o2.setCell n2 _).setCell n2 _).low (by omega), fun q e => ⟨by have := e1 q e; omega, hne q e⟩, fun q e => by have := e2 q e; omega, h7⟩

/-- A disk that is answered is laid into a new variable. -/
theorem DV.new {w1 : World} (hq : Box2R W w.heap.size 26 (.slice none 0 0) (.slice none 0 0)) (hb : Below W.heap.size W w1) {B B' : Option Addr} {m m' D D' : Nat} {X' Y' : List ByteArray} (o1 : OwnSt w1 W.heap.size (.slice B m D) m X') (o2 : OwnSt w1 W.heap.size (.slice B' m' D') m' Y') (hne : ∀ q, B.map (·.block) = some q → B'.map (·.block) ≠ some q) :
    DV w (w1.alloc (.cells #[.slice B m D, .slice B' m' D'] 26)) w1.heap.size B m D B' m' D' X' Y' := by
  have hlt := hq.lt
  have hs := hb.size
  have e1 : ∀ q, B.map (·.block) = some q → q < w1.heap.size := fun q e => (o1.lt q (by rw [blkOf_sV]; exact e)).2
  have e2 : ∀ q, B'.map (·.block) = some q → q < w1.heap.size := fun q e => (o2.lt q (by rw [blkOf_sV]; exact e)).2
  refine ⟨Box2R.new _ _ _ _, (hq.stays hb).alloc _, (o1.below ((Below.refl _ _).alloc (Nat.le_refl _) _)).low (by omega), (o2.below ((Below.refl _ _).alloc (Nat.le_refl _) _)).low (by omega), fun q e => ⟨by have := e1 q e; omega, hne q e⟩, fun q e => by have := e2 q e; omega, by omega⟩

/-- The disk is answered. -/
theorem DV.done (h : DV w W b A n C A' n' C' X Y) : AnsD w.heap.size X Y (.agg #[.slice A n C, .slice A' n' C']) ((W.setCell ⟨w.heap.size, 0, none⟩ (.slice A n C)).setCell ⟨w.heap.size, 1, none⟩ (.slice A' n' C')) := by
  obtain ⟨h1, h2, h3, h4, h5, h6, h7⟩ := h
  have n1 : blkOf (.slice A n C) ≠ some w.heap.size := fun e => by have := (h3.lt _ e).1; omega
  have n2 : blkOf (.slice A' n' C') ≠ some w.heap.size := fun e => by have := (h4.lt _ e).1; omega
  exact AnsD.mk' h3.len h4.len (((h3.setCell n1 _).setCell n1 _).low (by omega)) (((h4.setCell n2 _).setCell n2 _).low (by omega)) (fun q e => (h5 q e).2)
end

end Go.Proofs.Ytnbmlkkjgecigae
