/- Variables of three cells. No program in it. Variables of three and of four cells, written into. No program in it. A variable of any number of cells: no program in it. What the test of a range answers. Worlds held against each other, by contracts of what is held against each other in them. What is written lies between two bounds. No program in it. The marks laid into a world, by contracts of what is marked in it. The marks of a world, asked for, by contracts of what is asked for in it. -/
import Derived.Test.YtemcjenpgdieoaaGreatDoorM02
import Derived.Test.YtemcjenpgdieoaaGreatDoorM01
import Derived.Deep.CutBlock
namespace Go.Proofs.YtemcjenpgdieoaaGreatDoor
open Go.RowKit
set_option linter.unusedVariables false

/-- A variable of three cells. -/
def Box3 (W : World) (b : Nat) (t : TypeId) (x y z : Value) : Prop := W.heap[b]? = some (.cells #[x, y, z] t (0, 0))

theorem Box3.lt {W : World} {b : Nat} {t : TypeId} {x y z : Value} (h : Box3 W b t x y z) : b < W.heap.size := (Array.getElem?_eq_some_iff.1 h).1

theorem Box3.stays {W W' : World} {b : Nat} {t : TypeId} {x y z : Value} (h : Box3 W b t x y z) (hb : Below W.heap.size W W') : Box3 W' b t x y z := (hb.block b h.lt).trans h

theorem Box3.alloc {W : World} {b : Nat} {t : TypeId} {x y z : Value} (h : Box3 W b t x y z) (o : Obj) : Box3 (W.alloc o) b t x y z := by
  have hl := h.lt
  show (W.heap.push o)[b]? = _
  rw [Array.getElem?_push, if_neg (by omega)]
  exact h

theorem Box3.new (W : World) (t : TypeId) (x y z : Value) : Box3 (W.alloc (.cells #[x, y, z] t)) W.heap.size t x y z := heap_alloc_new W _

theorem Box3.cells {W : World} {b : Nat} {t : TypeId} {x y z : Value} (h : Box3 W b t x y z) : W.cell? ⟨b, 0, none⟩ = some x ∧ W.cell? ⟨b, 1, none⟩ = some y ∧ W.cell? ⟨b, 2, none⟩ = some z := by
  refine ⟨?_, ?_, ?_⟩ <;> (rw [cell_of_row _ _ _ _ _ _ h]; rfl)

theorem Box3.frozen {W : World} {b : Nat} {t : TypeId} {x y z : Value} (h : Box3 W b t x y z) (i : Nat) : W.frozen? ⟨b, i, none⟩ = false := by simp [World.frozen?, show W.heap[b]? = _ from h]

theorem Box3.grown {W W' : World} {b : Nat} {t : TypeId} {x y z : Value} {r : Option Nat} (h : Box3 W b t x y z) (hg : W.grownBy W' r) (hr : r ≠ some b) : Box3 W' b t x y z := (hg.block b h.lt (Ne.symm hr)).trans h

end Go.Proofs.YtemcjenpgdieoaaGreatDoor

namespace Go.Proofs.YtemcjenpgdieoaaGreatDoor
open Go.RowKit
set_option linter.unusedVariables false

theorem box4_set0 {W : World} {b : Nat} {t : TypeId} {x y z u : Value} (h : Box4 W b t x y z u) (v : Value) : Box4 (W.setCell ⟨b, 0, none⟩ v) b t v y z u := by
  show (W.setCell ⟨b, 0, none⟩ v).heap[b]? = _
  rw [setCell_eq_setRow W b 0 _ t (0, 0) _ h, setRow_heap W b _ _ t (0, 0) h]
  rfl

theorem box4_set1 {W : World} {b : Nat} {t : TypeId} {x y z u : Value} (h : Box4 W b t x y z u) (v : Value) : Box4 (W.setCell ⟨b, 1, none⟩ v) b t x v z u := by
  show (W.setCell ⟨b, 1, none⟩ v).heap[b]? = _
  rw [setCell_eq_setRow W b 1 _ t (0, 0) _ h, setRow_heap W b _ _ t (0, 0) h]
  rfl

theorem box4_set2 {W : World} {b : Nat} {t : TypeId} {x y z u : Value} (h : Box4 W b t x y z u) (v : Value) : Box4 (W.setCell ⟨b, 2, none⟩ v) b t x y v u := by
  show (W.setCell ⟨b, 2, none⟩ v).heap[b]? = _
  rw [setCell_eq_setRow W b 2 _ t (0, 0) _ h, setRow_heap W b _ _ t (0, 0) h]
  rfl

theorem box4_set3 {W : World} {b : Nat} {t : TypeId} {x y z u : Value} (h : Box4 W b t x y z u) (v : Value) : Box4 (W.setCell ⟨b, 3, none⟩ v) b t x y z v := by
  show (W.setCell ⟨b, 3, none⟩ v).heap[b]? = _
  rw [setCell_eq_setRow W b 3 _ t (0, 0) _ h, setRow_heap W b _ _ t (0, 0) h]
  rfl

theorem box3_set0 {W : World} {b : Nat} {t : TypeId} {x y z : Value} (h : Box3 W b t x y z) (v : Value) : Box3 (W.setCell ⟨b, 0, none⟩ v) b t v y z := by
  show (W.setCell ⟨b, 0, none⟩ v).heap[b]? = _
  rw [setCell_eq_setRow W b 0 _ t (0, 0) _ h, setRow_heap W b _ _ t (0, 0) h]
  rfl

theorem box3_set1 {W : World} {b : Nat} {t : TypeId} {x y z : Value} (h : Box3 W b t x y z) (v : Value) : Box3 (W.setCell ⟨b, 1, none⟩ v) b t x v z := by
  show (W.setCell ⟨b, 1, none⟩ v).heap[b]? = _
  rw [setCell_eq_setRow W b 1 _ t (0, 0) _ h, setRow_heap W b _ _ t (0, 0) h]
  rfl

theorem box3_set2 {W : World} {b : Nat} {t : TypeId} {x y z : Value} (h : Box3 W b t x y z) (v : Value) : Box3 (W.setCell ⟨b, 2, none⟩ v) b t x y v := by
  show (W.setCell ⟨b, 2, none⟩ v).heap[b]? = _
  rw [setCell_eq_setRow W b 2 _ t (0, 0) _ h, setRow_heap W b _ _ t (0, 0) h]
  rfl

theorem set_block_ne (w : World) (b b' k : Nat) (v : Value) (h : b ≠ b') : (w.setCell ⟨b', k, none⟩ v).heap[b]? = w.heap[b]? := by
  simp [World.setCell, Array.getElem?_modify, Ne.symm h]

theorem grownBy_set (W : World) (b k : Nat) (v : Value) : W.grownBy (W.setCell ⟨b, k, none⟩ v) (some b) :=
  ⟨rfl, rfl, rfl, by simp, fun i _ hne => set_block_ne W i b k v (fun e => hne (by rw [e]))⟩

/-- A variable of another block is as it was. -/
theorem box4_other {W : World} {b b' k : Nat} {t : TypeId} {x y z u v : Value} (h : Box4 W b t x y z u) (hne : b ≠ b') : Box4 (W.setCell ⟨b', k, none⟩ v) b t x y z u := (set_block_ne W b b' k v hne).trans h

theorem box3_other {W : World} {b b' k : Nat} {t : TypeId} {x y z v : Value} (h : Box3 W b t x y z) (hne : b ≠ b') : Box3 (W.setCell ⟨b', k, none⟩ v) b t x y z := (set_block_ne W b b' k v hne).trans h

/-- A row of the call's own is as it was where another block is written. -/
theorem owns_set {W : World} {base n cap b' k : Nat} {a : Option Addr} {zs : List Int} {v : Value} (h : Owns W base a n cap zs) (hne : a.map (·.block) ≠ some b') : Owns (W.setCell ⟨b', k, none⟩ v) base a n cap zs := by
  refine ⟨⟨h.1.1, ?_⟩, h.2⟩
  rcases h.1.2 with h0 | ⟨g, cap', cur, he, hb, hg, r⟩
  · exact .inl h0
  · injection he with e1 e2 e3
    subst e1
    refine .inr ⟨g, cap', cur, by rw [e3], hb, ?_, r⟩
    rw [set_block_ne W g b' k v (fun e => hne (by rw [← e]; rfl))]
    exact hg

end Go.Proofs.YtemcjenpgdieoaaGreatDoor

namespace Go.Proofs.YtemcjenpgdieoaaGreatDoor
open Go.RowKit
set_option linter.unusedVariables false

/-- The block holds a variable of these cells. -/
def BoxN (W : World) (b : Nat) (t : TypeId) (vs : List Value) : Prop := W.heap[b]? = some (.cells vs.toArray t (0, 0))

section
variable {W W' : World} {b : Nat} {t : TypeId} {vs : List Value}

theorem BoxN.lt (h : BoxN W b t vs) : b < W.heap.size := (Array.getElem?_eq_some_iff.1 h).1
theorem BoxN.stays (h : BoxN W b t vs) (hb : Below W.heap.size W W') : BoxN W' b t vs := (hb.block b h.lt).trans h
theorem BoxN.alloc (h : BoxN W b t vs) (o : Obj) : BoxN (W.alloc o) b t vs := h.stays ((Below.refl _ _).alloc (Nat.le_refl _) _)
theorem BoxN.new (W : World) (t : TypeId) (vs : List Value) : BoxN (W.alloc (.cells vs.toArray t)) W.heap.size t vs := heap_alloc_new W _

theorem BoxN.cell (h : BoxN W b t vs) (i : Nat) {v : Value} (hv : vs[i]? = some v) : W.cell? ⟨b, i, none⟩ = some v := by
  have h' : W.heap[b]? = some (.cells vs.toArray t (0, 0)) := h
  rw [cell_of_row _ _ _ _ _ _ h', ← hv]
  simp

theorem BoxN.frozen (h : BoxN W b t vs) (i : Nat) : W.frozen? ⟨b, i, none⟩ = false := by simp [World.frozen?, show W.heap[b]? = _ from h]
theorem BoxN.grown {r : Option Nat} (h : BoxN W b t vs) (hg : W.grownBy W' r) (hr : r ≠ some b) : BoxN W' b t vs := (hg.block b h.lt (Ne.symm hr)).trans h

theorem BoxN.set (h : BoxN W b t vs) (i : Nat) (v : Value) : BoxN (W.setCell ⟨b, i, none⟩ v) b t (vs.set i v) := by
  show (W.setCell ⟨b, i, none⟩ v).heap[b]? = _
  rw [setCell_eq_setRow W b i _ t (0, 0) _ h, setRow_heap W b _ _ t (0, 0) h]
  simp

theorem BoxN.other {b' k : Nat} (h : BoxN W b t vs) (hne : b ≠ b') (v : Value) : BoxN (W.setCell ⟨b', k, none⟩ v) b t vs := (set_block_ne W b b' k v hne).trans h
end

end Go.Proofs.YtemcjenpgdieoaaGreatDoor

namespace Go.Proofs.YtemcjenpgdieoaaGreatDoor
open Go.RowKit
set_option linter.unusedVariables false

set_option maxHeartbeats 400000 in
theorem l1In_yes (x lo hi : Int) (w : World) (h1 : lo ≤ x) (h2 : x ≤ hi) : Calls Tryz.prog 46 #[.int .i64 x, .int .i64 lo, .int .i64 hi] w fun e w' => e = .returned (.bool true) ∧ w' = w := by
  go_enter Tryz.func46, Tryz.ntmps46
  go_wp2
  go_ret
  exact ⟨rfl, rfl⟩

set_option maxHeartbeats 400000 in
theorem l1In_no (x lo hi : Int) (w : World) (h : x < lo ∨ hi < x) : Calls Tryz.prog 46 #[.int .i64 x, .int .i64 lo, .int .i64 hi] w fun e w' => e = .returned (.bool false) ∧ w' = w := by
  by_cases h1 : x < lo
  · clear h
    go_enter Tryz.func46, Tryz.ntmps46
    go_wp2
    go_ret
    exact ⟨rfl, rfl⟩
  · have h2 : hi < x := by omega
    clear h
    go_enter Tryz.func46, Tryz.ntmps46
    go_wp2
    go_ret
    exact ⟨ret_bool (by simp; omega), rfl⟩

theorem l1In_any (x lo hi : Int) (w : World) : Calls Tryz.prog 46 #[.int .i64 x, .int .i64 lo, .int .i64 hi] w fun e w' => e = .returned (.bool (decide (lo ≤ x ∧ x ≤ hi))) ∧ w' = w := by
  by_cases h : lo ≤ x ∧ x ≤ hi
  · rw [decide_eq_true h]
    exact l1In_yes x lo hi w h.1 h.2
  · rw [decide_eq_false h]
    exact l1In_no x lo hi w (by omega)

end Go.Proofs.YtemcjenpgdieoaaGreatDoor

namespace Go.Proofs.YtemcjenpgdieoaaGreatDoor
open Go.RowKit
set_option linter.unusedVariables false

set_option maxRecDepth 10000 in
set_option maxHeartbeats 3200000 in
theorem eqWorld_of (a0 a1 ua ha ca ba wa ta za : Option Addr) (n0 c0 n1 c1 un uc hn hc cn cc bn bc wn wc tn tc zn zc : Nat) (a0' a1' ua' ha' ca' ba' wa' ta' za' : Option Addr) (n0' c0' n1' c1' un' uc' hn' hc' cn' cc' bn' bc' wn' wc' tn' tc' zn' zc' : Nat) (ep nx : Int) (w : World) (h0 : ∀ W, Below w.heap.size w W → Calls Tryz.prog 22 #[.agg #[.slice a0 n0 c0, .slice a1 n1 c1, .int .i64 ep, .int .i64 nx, .slice ua un uc, .slice ha hn hc], .agg #[.slice a0' n0' c0', .slice a1' n1' c1', .int .i64 ep, .int .i64 nx, .slice ua' un' uc', .slice ha' hn' hc']] W fun e w' => e = .returned (.bool true) ∧ Below W.heap.size W w') (h1 : ∀ W, Below w.heap.size w W → Calls Tryz.prog 9 #[.slice ca cn cc, .slice ca' cn' cc'] W fun e w' => e = .returned (.bool true) ∧ Below W.heap.size W w') (h2 : ∀ W, Below w.heap.size w W → Calls Tryz.prog 23 #[.slice ba bn bc, .slice ba' bn' bc'] W fun e w' => e = .returned (.bool true) ∧ Below W.heap.size W w') (h3 : ∀ W, Below w.heap.size w W → Calls Tryz.prog 24 #[.slice wa wn wc, .slice wa' wn' wc'] W fun e w' => e = .returned (.bool true) ∧ Below W.heap.size W w') (h4 : ∀ W, Below w.heap.size w W → Calls Tryz.prog 25 #[.slice ta tn tc, .slice ta' tn' tc'] W fun e w' => e = .returned (.bool true) ∧ Below W.heap.size W w') (h5 : ∀ W, Below w.heap.size w W → Calls Tryz.prog 26 #[.slice za zn zc, .slice za' zn' zc'] W fun e w' => e = .returned (.bool true) ∧ Below W.heap.size W w') :
    Calls Tryz.prog 8 #[.agg #[.slice a0 n0 c0, .slice a1 n1 c1, .int .i64 ep, .int .i64 nx, .slice ua un uc, .slice ha hn hc, .slice ca cn cc, .slice ba bn bc, .slice wa wn wc, .slice ta tn tc, .slice za zn zc], .agg #[.slice a0' n0' c0', .slice a1' n1' c1', .int .i64 ep, .int .i64 nx, .slice ua' un' uc', .slice ha' hn' hc', .slice ca' cn' cc', .slice ba' bn' bc', .slice wa' wn' wc', .slice ta' tn' tc', .slice za' zn' zc']] w fun e w' => e = .returned (.bool true) ∧ Below w.heap.size w w' := by
  obtain ⟨w0, hw0⟩ : ∃ w0, (w.alloc (.cells #[.slice a0 n0 c0, .slice a1 n1 c1, .int .i64 ep, .int .i64 nx, .slice ua un uc, .slice ha hn hc, .slice ca cn cc, .slice ba bn bc, .slice wa wn wc, .slice ta tn tc, .slice za zn zc] 38)).alloc (.cells #[.slice a0' n0' c0', .slice a1' n1' c1', .int .i64 ep, .int .i64 nx, .slice ua' un' uc', .slice ha' hn' hc', .slice ca' cn' cc', .slice ba' bn' bc', .slice wa' wn' wc', .slice ta' tn' tc', .slice za' zn' zc'] 38) = w0 := ⟨_, rfl⟩
  have HE : Hid ((w.alloc (.cells #[.slice a0 n0 c0, .slice a1 n1 c1, .int .i64 ep, .int .i64 nx, .slice ua un uc, .slice ha hn hc, .slice ca cn cc, .slice ba bn bc, .slice wa wn wc, .slice ta tn tc, .slice za zn zc] 38)).alloc (.cells #[.slice a0' n0' c0', .slice a1' n1' c1', .int .i64 ep, .int .i64 nx, .slice ua' un' uc', .slice ha' hn' hc', .slice ca' cn' cc', .slice ba' bn' bc', .slice wa' wn' wc', .slice ta' tn' tc', .slice za' zn' zc'] 38) = w0) := hw0
  have HB : Hid (Below w.heap.size w w0) := by show Below _ _ _; rw [← hw0]; exact ((Below.refl _ _).alloc (Nat.le_refl _) _).alloc (by simp) _
  have HP : Hid (BoxN w0 w.heap.size 38 [.slice a0 n0 c0, .slice a1 n1 c1, .int .i64 ep, .int .i64 nx, .slice ua un uc, .slice ha hn hc, .slice ca cn cc, .slice ba bn bc, .slice wa wn wc, .slice ta tn tc, .slice za zn zc]) := by show BoxN _ _ _ _; rw [← hw0]; exact (BoxN.new _ _ _).alloc _
  have HQ : Hid (BoxN w0 (w.heap.size + 1) 38 [.slice a0' n0' c0', .slice a1' n1' c1', .int .i64 ep, .int .i64 nx, .slice ua' un' uc', .slice ha' hn' hc', .slice ca' cn' cc', .slice ba' bn' bc', .slice wa' wn' wc', .slice ta' tn' tc', .slice za' zn' zc']) := by
    show BoxN _ _ _ _
    rw [← hw0]
    have := BoxN.new (w.alloc (.cells #[.slice a0 n0 c0, .slice a1 n1 c1, .int .i64 ep, .int .i64 nx, .slice ua un uc, .slice ha hn hc, .slice ca cn cc, .slice ba bn bc, .slice wa wn wc, .slice ta tn tc, .slice za zn zc] 38)) 38 [.slice a0' n0' c0', .slice a1' n1' c1', .int .i64 ep, .int .i64 nx, .slice ua' un' uc', .slice ha' hn' hc', .slice ca' cn' cc', .slice ba' bn' bc', .slice wa' wn' wc', .slice ta' tn' tc', .slice za' zn' zc']
    rw [World.size_alloc] at this
    exact this
  have H0 : Hid (∀ W, Below w.heap.size w W → Calls Tryz.prog 22 #[.agg #[.slice a0 n0 c0, .slice a1 n1 c1, .int .i64 ep, .int .i64 nx, .slice ua un uc, .slice ha hn hc], .agg #[.slice a0' n0' c0', .slice a1' n1' c1', .int .i64 ep, .int .i64 nx, .slice ua' un' uc', .slice ha' hn' hc']] W fun e w' => e = .returned (.bool true) ∧ Below W.heap.size W w') := h0
  have H1 : Hid (∀ W, Below w.heap.size w W → Calls Tryz.prog 9 #[.slice ca cn cc, .slice ca' cn' cc'] W fun e w' => e = .returned (.bool true) ∧ Below W.heap.size W w') := h1
  have H2 : Hid (∀ W, Below w.heap.size w W → Calls Tryz.prog 23 #[.slice ba bn bc, .slice ba' bn' bc'] W fun e w' => e = .returned (.bool true) ∧ Below W.heap.size W w') := h2
  have H3 : Hid (∀ W, Below w.heap.size w W → Calls Tryz.prog 24 #[.slice wa wn wc, .slice wa' wn' wc'] W fun e w' => e = .returned (.bool true) ∧ Below W.heap.size W w') := h3
  have H4 : Hid (∀ W, Below w.heap.size w W → Calls Tryz.prog 25 #[.slice ta tn tc, .slice ta' tn' tc'] W fun e w' => e = .returned (.bool true) ∧ Below W.heap.size W w') := h4
  have H5 : Hid (∀ W, Below w.heap.size w W → Calls Tryz.prog 26 #[.slice za zn zc, .slice za' zn' zc'] W fun e w' => e = .returned (.bool true) ∧ Below W.heap.size W w') := h5
  clear hw0 h0 h1 h2 h3 h4 h5
  have p0 := HP.out.cell 0 rfl
  have q0 := HQ.out.cell 0 rfl
  have p1 := HP.out.cell 1 rfl
  have q1 := HQ.out.cell 1 rfl
  have p2 := HP.out.cell 2 rfl
  have q2 := HQ.out.cell 2 rfl
  have p3 := HP.out.cell 3 rfl
  have q3 := HQ.out.cell 3 rfl
  have p4 := HP.out.cell 4 rfl
  have q4 := HQ.out.cell 4 rfl
  have p5 := HP.out.cell 5 rfl
  have q5 := HQ.out.cell 5 rfl
  go_enter Tryz.func8, Tryz.ntmps8
  go_upto_region 1 with fail
  rw [HE.out]
  clear HE
  go_wp2_with fail
  refine (H0.out _ HB.out).mono ?_
  rintro _ W1 ⟨rfl, hb1⟩
  have HB1 : Hid (Below w.heap.size w W1) := HB.out.trans (hb1.mono HB.out.size)
  have HP1 : Hid (BoxN W1 w.heap.size 38 [.slice a0 n0 c0, .slice a1 n1 c1, .int .i64 ep, .int .i64 nx, .slice ua un uc, .slice ha hn hc, .slice ca cn cc, .slice ba bn bc, .slice wa wn wc, .slice ta tn tc, .slice za zn zc]) := HP.out.stays hb1
  have HQ1 : Hid (BoxN W1 (w.heap.size + 1) 38 [.slice a0' n0' c0', .slice a1' n1' c1', .int .i64 ep, .int .i64 nx, .slice ua' un' uc', .slice ha' hn' hc', .slice ca' cn' cc', .slice ba' bn' bc', .slice wa' wn' wc', .slice ta' tn' tc', .slice za' zn' zc']) := HQ.out.stays hb1
  clear hb1 HP HQ HB H0 p0 q0 p1 q1 p2 q2 p3 q3 p4 q4 p5 q5
  have p1 := HP1.out.cell 6 rfl
  have q1 := HQ1.out.cell 6 rfl
  go_wp2_with fail
  refine (H1.out _ HB1.out).mono ?_
  rintro _ W2 ⟨rfl, hb1⟩
  have HB2 : Hid (Below w.heap.size w W2) := HB1.out.trans (hb1.mono HB1.out.size)
  have HP2 : Hid (BoxN W2 w.heap.size 38 [.slice a0 n0 c0, .slice a1 n1 c1, .int .i64 ep, .int .i64 nx, .slice ua un uc, .slice ha hn hc, .slice ca cn cc, .slice ba bn bc, .slice wa wn wc, .slice ta tn tc, .slice za zn zc]) := HP1.out.stays hb1
  have HQ2 : Hid (BoxN W2 (w.heap.size + 1) 38 [.slice a0' n0' c0', .slice a1' n1' c1', .int .i64 ep, .int .i64 nx, .slice ua' un' uc', .slice ha' hn' hc', .slice ca' cn' cc', .slice ba' bn' bc', .slice wa' wn' wc', .slice ta' tn' tc', .slice za' zn' zc']) := HQ1.out.stays hb1
  clear hb1 HP1 HQ1 HB1 H1 p1 q1
  have p2 := HP2.out.cell 7 rfl
  have q2 := HQ2.out.cell 7 rfl
  go_wp2_with fail
  refine (H2.out _ HB2.out).mono ?_
  rintro _ W3 ⟨rfl, hb1⟩
  have HB3 : Hid (Below w.heap.size w W3) := HB2.out.trans (hb1.mono HB2.out.size)
  have HP3 : Hid (BoxN W3 w.heap.size 38 [.slice a0 n0 c0, .slice a1 n1 c1, .int .i64 ep, .int .i64 nx, .slice ua un uc, .slice ha hn hc, .slice ca cn cc, .slice ba bn bc, .slice wa wn wc, .slice ta tn tc, .slice za zn zc]) := HP2.out.stays hb1
  have HQ3 : Hid (BoxN W3 (w.heap.size + 1) 38 [.slice a0' n0' c0', .slice a1' n1' c1', .int .i64 ep, .int .i64 nx, .slice ua' un' uc', .slice ha' hn' hc', .slice ca' cn' cc', .slice ba' bn' bc', .slice wa' wn' wc', .slice ta' tn' tc', .slice za' zn' zc']) := HQ2.out.stays hb1
  clear hb1 HP2 HQ2 HB2 H2 p2 q2
  have p3 := HP3.out.cell 8 rfl
  have q3 := HQ3.out.cell 8 rfl
  go_wp2_with fail
  refine (H3.out _ HB3.out).mono ?_
  rintro _ W4 ⟨rfl, hb1⟩
  have HB4 : Hid (Below w.heap.size w W4) := HB3.out.trans (hb1.mono HB3.out.size)
  have HP4 : Hid (BoxN W4 w.heap.size 38 [.slice a0 n0 c0, .slice a1 n1 c1, .int .i64 ep, .int .i64 nx, .slice ua un uc, .slice ha hn hc, .slice ca cn cc, .slice ba bn bc, .slice wa wn wc, .slice ta tn tc, .slice za zn zc]) := HP3.out.stays hb1
  have HQ4 : Hid (BoxN W4 (w.heap.size + 1) 38 [.slice a0' n0' c0', .slice a1' n1' c1', .int .i64 ep, .int .i64 nx, .slice ua' un' uc', .slice ha' hn' hc', .slice ca' cn' cc', .slice ba' bn' bc', .slice wa' wn' wc', .slice ta' tn' tc', .slice za' zn' zc']) := HQ3.out.stays hb1
  clear hb1 HP3 HQ3 HB3 H3 p3 q3
  have p4 := HP4.out.cell 9 rfl
  have q4 := HQ4.out.cell 9 rfl
  go_wp2_with fail
  refine (H4.out _ HB4.out).mono ?_
  rintro _ W5 ⟨rfl, hb1⟩
  have HB5 : Hid (Below w.heap.size w W5) := HB4.out.trans (hb1.mono HB4.out.size)
  have HP5 : Hid (BoxN W5 w.heap.size 38 [.slice a0 n0 c0, .slice a1 n1 c1, .int .i64 ep, .int .i64 nx, .slice ua un uc, .slice ha hn hc, .slice ca cn cc, .slice ba bn bc, .slice wa wn wc, .slice ta tn tc, .slice za zn zc]) := HP4.out.stays hb1
  have HQ5 : Hid (BoxN W5 (w.heap.size + 1) 38 [.slice a0' n0' c0', .slice a1' n1' c1', .int .i64 ep, .int .i64 nx, .slice ua' un' uc', .slice ha' hn' hc', .slice ca' cn' cc', .slice ba' bn' bc', .slice wa' wn' wc', .slice ta' tn' tc', .slice za' zn' zc']) := HQ4.out.stays hb1
  clear hb1 HP4 HQ4 HB4 H4 p4 q4
  have p5 := HP5.out.cell 10 rfl
  have q5 := HQ5.out.cell 10 rfl
  go_wp2_with fail
  refine (H5.out _ HB5.out).mono ?_
  rintro _ W6 ⟨rfl, hb1⟩
  have HB6 : Hid (Below w.heap.size w W6) := HB5.out.trans (hb1.mono HB5.out.size)
  clear hb1 HP5 HQ5 HB5 H5 p5 q5
  go_wp2_with fail
  go_ret
  exact ⟨rfl, HB6.out⟩

end Go.Proofs.YtemcjenpgdieoaaGreatDoor

namespace Go.Proofs.YtemcjenpgdieoaaGreatDoor
open Go.RowKit
set_option linter.unusedVariables false

/-- Of what was there, only blocks from lo on and below hi may have turned. -/
structure Within (w w' : World) (lo hi : Nat) : Prop where
  os : w'.os = w.os
  tape : w'.tape = w.tape
  output : w'.output = w.output
  size : w.heap.size ≤ w'.heap.size
  block : ∀ q, q < w.heap.size → (q < lo ∨ hi ≤ q) → w'.heap[q]? = w.heap[q]?

theorem Within.refl (w : World) (lo hi : Nat) : Within w w lo hi := ⟨rfl, rfl, rfl, Nat.le_refl _, fun _ _ _ => rfl⟩

theorem Within.trans {w w1 w2 : World} {lo hi : Nat} (h : Within w w1 lo hi) (k : Within w1 w2 lo hi) : Within w w2 lo hi :=
  ⟨k.os.trans h.os, k.tape.trans h.tape, k.output.trans h.output, Nat.le_trans h.size k.size, fun q hq ho => (k.block q (Nat.lt_of_lt_of_le hq h.size) ho).trans (h.block q hq ho)⟩

theorem within_below {w w' : World} {lo hi : Nat} (h : Below w.heap.size w w') : Within w w' lo hi := ⟨h.os, h.tape, h.output, h.size, fun q hq _ => h.block q hq⟩

theorem within_grown {w w' : World} {lo hi : Nat} {r : Option Nat} (h : w.grownBy w' r) (hr : ∀ q, r = some q → lo ≤ q ∧ q < hi) : Within w w' lo hi :=
  ⟨h.os, h.tape, h.output, h.size, fun q hq ho => h.block q hq (fun e => by have := hr q e.symm; omega)⟩

theorem Within.below {w w' : World} {lo hi : Nat} (h : Within w w' lo hi) (hl : lo ≤ w.heap.size) : Below lo w w' :=
  ⟨h.os, h.tape, h.output, h.size, fun q hq => h.block q (Nat.lt_of_lt_of_le hq hl) (.inl hq)⟩

theorem Within.more {w w' : World} {lo hi lo' hi' : Nat} (h : Within w w' lo hi) (h1 : lo' ≤ lo) (h2 : hi ≤ hi') : Within w w' lo' hi' :=
  ⟨h.os, h.tape, h.output, h.size, fun q hq ho => h.block q hq (by omega)⟩

end Go.Proofs.YtemcjenpgdieoaaGreatDoor

namespace Go.Proofs.YtemcjenpgdieoaaGreatDoor
open Go.RowKit
set_option linter.unusedVariables false

/-- Blocks from a bound on are as they were. -/
def NewK (b : Nat) (W W' : World) : Prop := ∀ q, b ≤ q → q < W.heap.size → W'.heap[q]? = W.heap[q]?

theorem newK_within {b lo hi : Nat} {W W' : World} (h : Within W W' lo hi) (hh : hi ≤ b) : NewK b W W' := fun q h1 h2 => h.block q h2 (.inr (by omega))

theorem BoxN.newK {b q : Nat} {W W' : World} {t : TypeId} {vs : List Value} (h : BoxN W q t vs) (k : NewK b W W') (hb : b ≤ q) : BoxN W' q t vs := (k q hb h.lt).trans h

set_option maxRecDepth 10000 in
set_option maxHeartbeats 3200000 in
theorem markWorld_of (a0 a1 ua ha ca ba wa ta za : Option Addr) (n0 c0 n1 c1 un uc hn hc cn cc bn bc wn wc tn tc zn zc : Nat) (ep nx : Int) (E0 E1 E2 E3 E4 E5 E6 : Int) (w : World) (P0 P1 P2 P3 P4 P5 P6 : World → Prop) (hp : P0 (w.alloc (.cells #[.slice a0 n0 c0, .slice a1 n1 c1, .int .i64 ep, .int .i64 nx, .slice ua un uc, .slice ha hn hc, .slice ca cn cc, .slice ba bn bc, .slice wa wn wc, .slice ta tn tc, .slice za zn zc] 38))) (h0 : ∀ W, P0 W → Calls Tryz.prog 30 #[.agg #[.slice a0 n0 c0, .slice a1 n1 c1, .int .i64 ep, .int .i64 nx, .slice ua un uc, .slice ha hn hc], .int .i64 E0] W fun e w' => e = .returned (.int .i64 E1) ∧ P1 w' ∧ ∀ vs, BoxN W w.heap.size 38 vs → BoxN w' w.heap.size 38 vs) (h1 : ∀ W, P1 W → Calls Tryz.prog 10 #[.slice ca cn cc, .int .i64 E1] W fun e w' => e = .returned (.int .i64 E2) ∧ P2 w' ∧ ∀ vs, BoxN W w.heap.size 38 vs → BoxN w' w.heap.size 38 vs) (h2 : ∀ W, P2 W → Calls Tryz.prog 31 #[.slice ba bn bc, .int .i64 E2] W fun e w' => e = .returned (.int .i64 E3) ∧ P3 w' ∧ ∀ vs, BoxN W w.heap.size 38 vs → BoxN w' w.heap.size 38 vs) (h3 : ∀ W, P3 W → Calls Tryz.prog 32 #[.slice wa wn wc, .int .i64 E3] W fun e w' => e = .returned (.int .i64 E4) ∧ P4 w' ∧ ∀ vs, BoxN W w.heap.size 38 vs → BoxN w' w.heap.size 38 vs) (h4 : ∀ W, P4 W → Calls Tryz.prog 33 #[.slice ta tn tc, .int .i64 E4] W fun e w' => e = .returned (.int .i64 E5) ∧ P5 w' ∧ ∀ vs, BoxN W w.heap.size 38 vs → BoxN w' w.heap.size 38 vs) (h5 : ∀ W, P5 W → Calls Tryz.prog 34 #[.slice za zn zc, .int .i64 E5] W fun e w' => e = .returned (.int .i64 E6) ∧ P6 w' ∧ ∀ vs, BoxN W w.heap.size 38 vs → BoxN w' w.heap.size 38 vs) :
    Calls Tryz.prog 11 #[.agg #[.slice a0 n0 c0, .slice a1 n1 c1, .int .i64 ep, .int .i64 nx, .slice ua un uc, .slice ha hn hc, .slice ca cn cc, .slice ba bn bc, .slice wa wn wc, .slice ta tn tc, .slice za zn zc], .int .i64 E0] w fun e w' => e = .returned (.int .i64 E6) ∧ P6 w' := by
  obtain ⟨w0, hw0⟩ : ∃ w0, w.alloc (.cells #[.slice a0 n0 c0, .slice a1 n1 c1, .int .i64 ep, .int .i64 nx, .slice ua un uc, .slice ha hn hc, .slice ca cn cc, .slice ba bn bc, .slice wa wn wc, .slice ta tn tc, .slice za zn zc] 38) = w0 := ⟨_, rfl⟩
  have HE : Hid (w.alloc (.cells #[.slice a0 n0 c0, .slice a1 n1 c1, .int .i64 ep, .int .i64 nx, .slice ua un uc, .slice ha hn hc, .slice ca cn cc, .slice ba bn bc, .slice wa wn wc, .slice ta tn tc, .slice za zn zc] 38) = w0) := hw0
  have HP0 : Hid (BoxN w0 w.heap.size 38 [.slice a0 n0 c0, .slice a1 n1 c1, .int .i64 ep, .int .i64 nx, .slice ua un uc, .slice ha hn hc, .slice ca cn cc, .slice ba bn bc, .slice wa wn wc, .slice ta tn tc, .slice za zn zc]) := by show BoxN _ _ _ _; rw [← hw0]; exact BoxN.new _ _ _
  have HS0 : Hid (P0 w0) := by show P0 w0; rw [← hw0]; exact hp
  have H0 : Hid (∀ W, P0 W → Calls Tryz.prog 30 #[.agg #[.slice a0 n0 c0, .slice a1 n1 c1, .int .i64 ep, .int .i64 nx, .slice ua un uc, .slice ha hn hc], .int .i64 E0] W fun e w' => e = .returned (.int .i64 E1) ∧ P1 w' ∧ ∀ vs, BoxN W w.heap.size 38 vs → BoxN w' w.heap.size 38 vs) := h0
  have H1 : Hid (∀ W, P1 W → Calls Tryz.prog 10 #[.slice ca cn cc, .int .i64 E1] W fun e w' => e = .returned (.int .i64 E2) ∧ P2 w' ∧ ∀ vs, BoxN W w.heap.size 38 vs → BoxN w' w.heap.size 38 vs) := h1
  have H2 : Hid (∀ W, P2 W → Calls Tryz.prog 31 #[.slice ba bn bc, .int .i64 E2] W fun e w' => e = .returned (.int .i64 E3) ∧ P3 w' ∧ ∀ vs, BoxN W w.heap.size 38 vs → BoxN w' w.heap.size 38 vs) := h2
  have H3 : Hid (∀ W, P3 W → Calls Tryz.prog 32 #[.slice wa wn wc, .int .i64 E3] W fun e w' => e = .returned (.int .i64 E4) ∧ P4 w' ∧ ∀ vs, BoxN W w.heap.size 38 vs → BoxN w' w.heap.size 38 vs) := h3
  have H4 : Hid (∀ W, P4 W → Calls Tryz.prog 33 #[.slice ta tn tc, .int .i64 E4] W fun e w' => e = .returned (.int .i64 E5) ∧ P5 w' ∧ ∀ vs, BoxN W w.heap.size 38 vs → BoxN w' w.heap.size 38 vs) := h4
  have H5 : Hid (∀ W, P5 W → Calls Tryz.prog 34 #[.slice za zn zc, .int .i64 E5] W fun e w' => e = .returned (.int .i64 E6) ∧ P6 w' ∧ ∀ vs, BoxN W w.heap.size 38 vs → BoxN w' w.heap.size 38 vs) := h5
  clear hw0 hp h0 h1 h2 h3 h4 h5
  have p0 := HP0.out.cell 0 rfl
  have p1 := HP0.out.cell 1 rfl
  have p2 := HP0.out.cell 2 rfl
  have p3 := HP0.out.cell 3 rfl
  have p4 := HP0.out.cell 4 rfl
  have p5 := HP0.out.cell 5 rfl
  go_enter Tryz.func11, Tryz.ntmps11
  go_upto_region 1 with fail
  rw [HE.out]
  clear HE
  go_wp2_with fail
  refine (H0.out _ HS0.out).mono ?_
  rintro _ W1 ⟨rfl, hs1, hk1⟩
  have HS1 : Hid (P1 W1) := hs1
  have HP1 : Hid (BoxN W1 w.heap.size 38 [.slice a0 n0 c0, .slice a1 n1 c1, .int .i64 ep, .int .i64 nx, .slice ua un uc, .slice ha hn hc, .slice ca cn cc, .slice ba bn bc, .slice wa wn wc, .slice ta tn tc, .slice za zn zc]) := hk1 _ HP0.out
  clear hs1 hk1 HP0 HS0 H0 p0 p1 p2 p3 p4 p5
  have p6 := HP1.out.cell 6 rfl
  go_wp2_with fail
  refine (H1.out _ HS1.out).mono ?_
  rintro _ W2 ⟨rfl, hs1, hk1⟩
  have HS2 : Hid (P2 W2) := hs1
  have HP2 : Hid (BoxN W2 w.heap.size 38 [.slice a0 n0 c0, .slice a1 n1 c1, .int .i64 ep, .int .i64 nx, .slice ua un uc, .slice ha hn hc, .slice ca cn cc, .slice ba bn bc, .slice wa wn wc, .slice ta tn tc, .slice za zn zc]) := hk1 _ HP1.out
  clear hs1 hk1 HP1 HS1 H1 p6
  have p7 := HP2.out.cell 7 rfl
  go_wp2_with fail
  refine (H2.out _ HS2.out).mono ?_
  rintro _ W3 ⟨rfl, hs1, hk1⟩
  have HS3 : Hid (P3 W3) := hs1
  have HP3 : Hid (BoxN W3 w.heap.size 38 [.slice a0 n0 c0, .slice a1 n1 c1, .int .i64 ep, .int .i64 nx, .slice ua un uc, .slice ha hn hc, .slice ca cn cc, .slice ba bn bc, .slice wa wn wc, .slice ta tn tc, .slice za zn zc]) := hk1 _ HP2.out
  clear hs1 hk1 HP2 HS2 H2 p7
  have p8 := HP3.out.cell 8 rfl
  go_wp2_with fail
  refine (H3.out _ HS3.out).mono ?_
  rintro _ W4 ⟨rfl, hs1, hk1⟩
  have HS4 : Hid (P4 W4) := hs1
  have HP4 : Hid (BoxN W4 w.heap.size 38 [.slice a0 n0 c0, .slice a1 n1 c1, .int .i64 ep, .int .i64 nx, .slice ua un uc, .slice ha hn hc, .slice ca cn cc, .slice ba bn bc, .slice wa wn wc, .slice ta tn tc, .slice za zn zc]) := hk1 _ HP3.out
  clear hs1 hk1 HP3 HS3 H3 p8
  have p9 := HP4.out.cell 9 rfl
  go_wp2_with fail
  refine (H4.out _ HS4.out).mono ?_
  rintro _ W5 ⟨rfl, hs1, hk1⟩
  have HS5 : Hid (P5 W5) := hs1
  have HP5 : Hid (BoxN W5 w.heap.size 38 [.slice a0 n0 c0, .slice a1 n1 c1, .int .i64 ep, .int .i64 nx, .slice ua un uc, .slice ha hn hc, .slice ca cn cc, .slice ba bn bc, .slice wa wn wc, .slice ta tn tc, .slice za zn zc]) := hk1 _ HP4.out
  clear hs1 hk1 HP4 HS4 H4 p9
  have p10 := HP5.out.cell 10 rfl
  go_wp2_with fail
  refine (H5.out _ HS5.out).mono ?_
  rintro _ W6 ⟨rfl, hs1, hk1⟩
  have HS6 : Hid (P6 W6) := hs1
  clear hs1 hk1 HP5 HS5 H5 p10
  go_wp2_with fail
  go_ret
  exact ⟨rfl, HS6.out⟩

end Go.Proofs.YtemcjenpgdieoaaGreatDoor

namespace Go.Proofs.YtemcjenpgdieoaaGreatDoor
open Go.RowKit
set_option linter.unusedVariables false

set_option maxRecDepth 10000 in
set_option maxHeartbeats 3200000 in
theorem heldWorld_of (a0 a1 ua ha ca ba wa ta za : Option Addr) (n0 c0 n1 c1 un uc hn hc cn cc bn bc wn wc tn tc zn zc : Nat) (ep nx : Int) (E0 E1 E2 E3 E4 E5 E6 : Int) (w : World) (e1 : 0 ≤ E1) (e2 : 0 ≤ E2) (e3 : 0 ≤ E3) (e4 : 0 ≤ E4) (e5 : 0 ≤ E5) (e6 : 0 ≤ E6) (h0 : ∀ W, Below w.heap.size w W → Calls Tryz.prog 35 #[.agg #[.slice a0 n0 c0, .slice a1 n1 c1, .int .i64 ep, .int .i64 nx, .slice ua un uc, .slice ha hn hc], .int .i64 E0] W fun e w' => e = .returned (.int .i64 E1) ∧ Below W.heap.size W w') (h1 : ∀ W, Below w.heap.size w W → Calls Tryz.prog 36 #[.slice ca cn cc, .int .i64 E1] W fun e w' => e = .returned (.int .i64 E2) ∧ Below W.heap.size W w') (h2 : ∀ W, Below w.heap.size w W → Calls Tryz.prog 37 #[.slice ba bn bc, .int .i64 E2] W fun e w' => e = .returned (.int .i64 E3) ∧ Below W.heap.size W w') (h3 : ∀ W, Below w.heap.size w W → Calls Tryz.prog 38 #[.slice wa wn wc, .int .i64 E3] W fun e w' => e = .returned (.int .i64 E4) ∧ Below W.heap.size W w') (h4 : ∀ W, Below w.heap.size w W → Calls Tryz.prog 39 #[.slice ta tn tc, .int .i64 E4] W fun e w' => e = .returned (.int .i64 E5) ∧ Below W.heap.size W w') (h5 : ∀ W, Below w.heap.size w W → Calls Tryz.prog 40 #[.slice za zn zc, .int .i64 E5] W fun e w' => e = .returned (.int .i64 E6) ∧ Below W.heap.size W w') :
    Calls Tryz.prog 12 #[.agg #[.slice a0 n0 c0, .slice a1 n1 c1, .int .i64 ep, .int .i64 nx, .slice ua un uc, .slice ha hn hc, .slice ca cn cc, .slice ba bn bc, .slice wa wn wc, .slice ta tn tc, .slice za zn zc], .int .i64 E0] w fun e w' => e = .returned (.int .i64 E6) ∧ Below w.heap.size w w' := by
  obtain ⟨w0, hw0⟩ : ∃ w0, w.alloc (.cells #[.slice a0 n0 c0, .slice a1 n1 c1, .int .i64 ep, .int .i64 nx, .slice ua un uc, .slice ha hn hc, .slice ca cn cc, .slice ba bn bc, .slice wa wn wc, .slice ta tn tc, .slice za zn zc] 38) = w0 := ⟨_, rfl⟩
  have HE : Hid (w.alloc (.cells #[.slice a0 n0 c0, .slice a1 n1 c1, .int .i64 ep, .int .i64 nx, .slice ua un uc, .slice ha hn hc, .slice ca cn cc, .slice ba bn bc, .slice wa wn wc, .slice ta tn tc, .slice za zn zc] 38) = w0) := hw0
  have HB0 : Hid (Below w.heap.size w w0) := by show Below _ _ _; rw [← hw0]; exact (Below.refl _ _).alloc (Nat.le_refl _) _
  have HP0 : Hid (BoxN w0 w.heap.size 38 [.slice a0 n0 c0, .slice a1 n1 c1, .int .i64 ep, .int .i64 nx, .slice ua un uc, .slice ha hn hc, .slice ca cn cc, .slice ba bn bc, .slice wa wn wc, .slice ta tn tc, .slice za zn zc]) := by show BoxN _ _ _ _; rw [← hw0]; exact BoxN.new _ _ _
  have H0 : Hid (∀ W, Below w.heap.size w W → Calls Tryz.prog 35 #[.agg #[.slice a0 n0 c0, .slice a1 n1 c1, .int .i64 ep, .int .i64 nx, .slice ua un uc, .slice ha hn hc], .int .i64 E0] W fun e w' => e = .returned (.int .i64 E1) ∧ Below W.heap.size W w') := h0
  have H1 : Hid (∀ W, Below w.heap.size w W → Calls Tryz.prog 36 #[.slice ca cn cc, .int .i64 E1] W fun e w' => e = .returned (.int .i64 E2) ∧ Below W.heap.size W w') := h1
  have H2 : Hid (∀ W, Below w.heap.size w W → Calls Tryz.prog 37 #[.slice ba bn bc, .int .i64 E2] W fun e w' => e = .returned (.int .i64 E3) ∧ Below W.heap.size W w') := h2
  have H3 : Hid (∀ W, Below w.heap.size w W → Calls Tryz.prog 38 #[.slice wa wn wc, .int .i64 E3] W fun e w' => e = .returned (.int .i64 E4) ∧ Below W.heap.size W w') := h3
  have H4 : Hid (∀ W, Below w.heap.size w W → Calls Tryz.prog 39 #[.slice ta tn tc, .int .i64 E4] W fun e w' => e = .returned (.int .i64 E5) ∧ Below W.heap.size W w') := h4
  have H5 : Hid (∀ W, Below w.heap.size w W → Calls Tryz.prog 40 #[.slice za zn zc, .int .i64 E5] W fun e w' => e = .returned (.int .i64 E6) ∧ Below W.heap.size W w') := h5
  clear hw0 h0 h1 h2 h3 h4 h5
  have p0 := HP0.out.cell 0 rfl
  have p1 := HP0.out.cell 1 rfl
  have p2 := HP0.out.cell 2 rfl
  have p3 := HP0.out.cell 3 rfl
  have p4 := HP0.out.cell 4 rfl
  have p5 := HP0.out.cell 5 rfl
  have ng1 : ¬ E1 < 0 := by omega
  have ng2 : ¬ E2 < 0 := by omega
  have ng3 : ¬ E3 < 0 := by omega
  have ng4 : ¬ E4 < 0 := by omega
  have ng5 : ¬ E5 < 0 := by omega
  have ng6 : ¬ E6 < 0 := by omega
  go_enter Tryz.func12, Tryz.ntmps12
  go_upto_region 1 with fail
  rw [HE.out]
  clear HE
  go_wp2_with fail
  refine (H0.out _ HB0.out).mono ?_
  rintro _ W1 ⟨rfl, hb1⟩
  have HB1 : Hid (Below w.heap.size w W1) := HB0.out.trans (hb1.mono HB0.out.size)
  have HP1 : Hid (BoxN W1 w.heap.size 38 [.slice a0 n0 c0, .slice a1 n1 c1, .int .i64 ep, .int .i64 nx, .slice ua un uc, .slice ha hn hc, .slice ca cn cc, .slice ba bn bc, .slice wa wn wc, .slice ta tn tc, .slice za zn zc]) := HP0.out.stays hb1
  clear hb1 HP0 HB0 H0 p0 p1 p2 p3 p4 p5
  have p6 := HP1.out.cell 6 rfl
  go_wp2_with fail
  refine (H1.out _ HB1.out).mono ?_
  rintro _ W2 ⟨rfl, hb1⟩
  have HB2 : Hid (Below w.heap.size w W2) := HB1.out.trans (hb1.mono HB1.out.size)
  have HP2 : Hid (BoxN W2 w.heap.size 38 [.slice a0 n0 c0, .slice a1 n1 c1, .int .i64 ep, .int .i64 nx, .slice ua un uc, .slice ha hn hc, .slice ca cn cc, .slice ba bn bc, .slice wa wn wc, .slice ta tn tc, .slice za zn zc]) := HP1.out.stays hb1
  clear hb1 HP1 HB1 H1 p6
  have p7 := HP2.out.cell 7 rfl
  go_wp2_with fail
  refine (H2.out _ HB2.out).mono ?_
  rintro _ W3 ⟨rfl, hb1⟩
  have HB3 : Hid (Below w.heap.size w W3) := HB2.out.trans (hb1.mono HB2.out.size)
  have HP3 : Hid (BoxN W3 w.heap.size 38 [.slice a0 n0 c0, .slice a1 n1 c1, .int .i64 ep, .int .i64 nx, .slice ua un uc, .slice ha hn hc, .slice ca cn cc, .slice ba bn bc, .slice wa wn wc, .slice ta tn tc, .slice za zn zc]) := HP2.out.stays hb1
  clear hb1 HP2 HB2 H2 p7
  have p8 := HP3.out.cell 8 rfl
  go_wp2_with fail
  refine (H3.out _ HB3.out).mono ?_
  rintro _ W4 ⟨rfl, hb1⟩
  have HB4 : Hid (Below w.heap.size w W4) := HB3.out.trans (hb1.mono HB3.out.size)
  have HP4 : Hid (BoxN W4 w.heap.size 38 [.slice a0 n0 c0, .slice a1 n1 c1, .int .i64 ep, .int .i64 nx, .slice ua un uc, .slice ha hn hc, .slice ca cn cc, .slice ba bn bc, .slice wa wn wc, .slice ta tn tc, .slice za zn zc]) := HP3.out.stays hb1
  clear hb1 HP3 HB3 H3 p8
  have p9 := HP4.out.cell 9 rfl
  go_wp2_with fail
  refine (H4.out _ HB4.out).mono ?_
  rintro _ W5 ⟨rfl, hb1⟩
  have HB5 : Hid (Below w.heap.size w W5) := HB4.out.trans (hb1.mono HB4.out.size)
  have HP5 : Hid (BoxN W5 w.heap.size 38 [.slice a0 n0 c0, .slice a1 n1 c1, .int .i64 ep, .int .i64 nx, .slice ua un uc, .slice ha hn hc, .slice ca cn cc, .slice ba bn bc, .slice wa wn wc, .slice ta tn tc, .slice za zn zc]) := HP4.out.stays hb1
  clear hb1 HP4 HB4 H4 p9
  have p10 := HP5.out.cell 10 rfl
  go_wp2_with fail
  refine (H5.out _ HB5.out).mono ?_
  rintro _ W6 ⟨rfl, hb1⟩
  have HB6 : Hid (Below w.heap.size w W6) := HB5.out.trans (hb1.mono HB5.out.size)
  clear hb1 HP5 HB5 H5 p10
  go_wp2_with fail
  go_ret
  exact ⟨rfl, HB6.out⟩

end Go.Proofs.YtemcjenpgdieoaaGreatDoor
