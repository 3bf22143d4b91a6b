/- How many bytes a frame takes at the most: what the program's pieceLen answers. What the program's Part answers: the block's parts, in memory of their own; nothing that was there is written. For blocks of at most 2^20 bytes. -/
import Derived.Test.YtbaijmkghgnleaaGreatDoorM24
import Derived.Test.YtbaijmkghgnleaaGreatDoorM01
import Derived.Test.YtbaijmkghgnleaaGreatDoorM39
import Derived.Test.YtbaijmkghgnleaaGreatDoorM40
import Derived.Test.YtbaijmkghgnleaaGreatDoorM40
import Derived.Test.YtbaijmkghgnleaaGreatDoorM40
import Derived.Test.YtbaijmkghgnleaaGreatDoorM40
import Derived.Test.YtbaijmkghgnleaaGreatDoorM39
import Derived.Test.YtbaijmkghgnleaaGreatDoorM26
import Derived.Test.YtbaijmkghgnleaaGreatDoorM25
import Derived.Deep.CutBlock
import Derived.Deep.RegionHeld3
import Derived.Deep.RegionWith
namespace Go.Proofs.YtbaijmkghgnleaaGreatDoor
open Go.RowKit
set_option linter.unusedVariables false

set_option maxRecDepth 10000 in
set_option maxHeartbeats 800000 in
theorem pieceLen_any (most : Int) (m : Nat) (w : World) (hm : clampM most = m) :
    Calls Tryz.prog 59 #[.int .i64 most] w fun e w' => e = .returned (.int .i64 (m : Int)) ∧ w' = w := by
  obtain ⟨mx, hmx⟩ : ∃ mx : Int, (if most < 1 then (1 : Int) else most) = mx := ⟨_, rfl⟩
  have hmn : (if (1000 : Int) < mx then (1000 : Int) else mx) = (m : Int) := by
    rw [← hmx, ← hm]
    unfold clampM
    split <;> split <;> omega
  have qx : ∀ w : World, (Builtin.max_ #[3, 3] 3 #[.int .i64 most, .int .i64 1]).run Tryz.prog w = .ok (.int .i64 mx) w := fun w => by rw [run_max_int2]; simp only [gt_iff_lt, hmx]
  have qn : ∀ w : World, (Builtin.min_ #[3, 3] 3 #[.int .i64 mx, .int .i64 1000]).run Tryz.prog w = .ok (.int .i64 m) w := fun w => by rw [run_min_int2, hmn]
  clear hmx hmn hm
  go_enter Tryz.func59, Tryz.ntmps59
  go_wp2_with fail
  go_ret
  exact ⟨rfl, rfl⟩

end Go.Proofs.YtbaijmkghgnleaaGreatDoor

namespace Go.Proofs.YtbaijmkghgnleaaGreatDoor
open Go.RowKit Go.Shelf
set_option linter.unusedVariables false
attribute [local go_sem] Oper.semAt_some

/-- What the loop keeps: the stream's number, the iterator's two variables, and the frames so far, j of them, each in memory of its own. -/
structure PI (w W : World) (bo bs bn : Nat) (s : Int) (sv : Value) (m : Nat) (zs : List Int) (j : Nat) : Prop where
  str : Boxed W w.heap.size 3 (.int .i64 s)
  sb : Boxed W bs 27 sv
  nb : Boxed W bn 3 (.int .i64 m)
  row : ∃ v l, Boxed W bo 52 v ∧ FrRow W w.heap.size v l ∧ l.length = j ∧ l.map FE.data = (List.range j).map (raw m s zs)
  bel : Below w.heap.size w W

theorem boxed_ne {W : World} {B r : Nat} {t : TypeId} {v : Value} {o : Obj} (h : Boxed W B t v) (ho : W.heap[r]? = some o) (hc : o.isCells = false) : B ≠ r := by
  intro e
  subst e
  rw [show W.heap[B]? = _ from h] at ho
  injection ho with ho
  subst ho
  cases hc

theorem PI.kept {w W W' : World} {bo bs bn : Nat} {s : Int} {sv : Value} {m : Nat} {zs : List Int} {j : Nat} {row : Option Nat} {B : Nat} (I : PI w W bo bs bn s sv m zs j) (hB : w.heap.size ≤ B) (hg : W.grownBy W' row) (hr : ∀ r, row = some r → B ≤ r ∧ ∃ o : Obj, W.heap[r]? = some o ∧ o.isCells = false) : PI w W' bo bs bn s sv m zs j := by
  have key : ∀ {b t v}, Boxed W b t v → Boxed W' b t v := fun {b t v} h => h.kept hg (fun e => by
    cases row with
    | none => cases e
    | some r =>
      obtain ⟨_, o, h1, h2⟩ := hr r rfl
      injection e with e
      exact boxed_ne h h1 h2 e)
  obtain ⟨v, l, h1, h2, h3, h4⟩ := I.row
  exact ⟨key I.str, key I.sb, key I.nb, ⟨v, l, key h1, h2.others hg (fun r e => (hr r e).2), h3, h4⟩, I.bel.grown hg I.bel.size (fun r e => Nat.le_trans hB (hr r e).1)⟩

theorem PI.drew {w W : World} {bo bs bn : Nat} {s : Int} {sv : Value} {m : Nat} {zs : List Int} {j : Nat} (I : PI w W bo bs bn s sv m zs j) : PI w W.drew bo bs bn s sv m zs j :=
  I.kept (row := none) (Nat.le_refl _) ⟨rfl, rfl, rfl, Nat.le_refl _, fun _ _ _ => rfl⟩ (fun r e => by cases e)

theorem cell_more {Y : World} {b i : Nat} {v : Value} {o : Obj} (h : Y.cell? ⟨b, i, none⟩ = some v) : (Y.alloc o).cell? ⟨b, i, none⟩ = some v := (World.cell?_alloc_lt _ _ ⟨b, i, none⟩ (lt_of_cell h)).trans h

theorem cell_else {Y : World} {b b' i k : Nat} {v u : Value} (hne : b ≠ b') (h : Y.cell? ⟨b, i, none⟩ = some v) : (Y.setCell ⟨b', k, none⟩ u).cell? ⟨b, i, none⟩ = some v := by
  have e := set_block_ne Y b b' k u hne
  simp only [World.cell?] at h ⊢
  rw [e]
  exact h

/-- A row of one frame. -/
theorem frRow_one {Y : World} {base B : Nat} {k f s : Int} {a : Option Addr} {n c : Nat} {zs : List Int} (ho : Owns Y B a n c zs) (hB : base ≤ B) (hb : base ≤ Y.heap.size) : FrRow (Y.alloc (.cells #[.int .i64 k, .int .i64 f, .int .i64 s, .slice a n c] 55)) base (.slice (some ⟨Y.heap.size, 0, none⟩) 1 1) [⟨k, f, s, a, n, c, zs⟩] := by
  refine ⟨?_, ?_, List.pairwise_singleton _ _⟩
  · exact World.ownsRow_lit Y #[.int .i64 k, .int .i64 f, .int .i64 s, .slice a n c] 1 hb (by unfold maxLen; omega) rfl
  · intro e he
    obtain rfl : e = ⟨k, f, s, a, n, c, zs⟩ := by simpa using he
    exact (ho.below ((Below.refl _ _).alloc (Nat.le_refl _) _)).low hB

/-- The row is stored into its variable. -/
theorem stored_row {w Z : World} {bo : Nat} {s : Int} {u v : Value} {l : List FE} (hs : Boxed Z w.heap.size 3 (.int .i64 s)) (hb : Boxed Z bo 52 u) (hr : FrRow Z w.heap.size v l) (hB : Below w.heap.size w Z) (hbo : w.heap.size < bo) :
    Boxed (Z.setCell ⟨bo, 0, none⟩ v) w.heap.size 3 (.int .i64 s) ∧ Boxed (Z.setCell ⟨bo, 0, none⟩ v) bo 52 v ∧ FrRow (Z.setCell ⟨bo, 0, none⟩ v) w.heap.size v l ∧ Below w.heap.size w (Z.setCell ⟨bo, 0, none⟩ v) := by
  refine ⟨hs.kept (grownBy_set Z bo 0 v) (fun e => by injection e with e; omega), hb.set v, ?_, hB.setCell (p := ⟨bo, 0, none⟩) (by show w.heap.size ≤ bo; omega) v⟩
  refine hr.grown (grownBy_set Z bo 0 v) (fun q e => ?_) (fun x hx q e => ?_)
  · injection e with e
    subst e
    exact fun e => (hb.not_row (by decide) hr.1) e.symm
  · injection e with e
    subst e
    exact (hr.2.1 x hx).other (show Z.heap[bo]? = _ from hb) (by decide)

/-- A frame more, stored into its variable. -/
theorem PI.step {w W Y W5 : World} {bo bs bn : Nat} {s : Int} {sv v v5 : Value} {m : Nat} {zs : List Int} {j : Nat} {l : List FE} {a : Option Addr} {n c : Nat} {ys : List Int} {B : Nat} (I : PI w W bo bs bn s sv m zs j) (hbx : Boxed W bo 52 v) (hrow : FrRow W w.heap.size v l) (hlen : l.length = j) (hdat : l.map FE.data = (List.range j).map (raw m s zs))
    (hY : Below W.heap.size W Y) (og : Owns Y W.heap.size a n c ys) (hown : W5.ownsRow w.heap.size 55 4 v5 (l.length + 1) (feCells l ++ FE.cells ⟨9, 0, s, a, n, c, ys⟩)) (hgrow : (Y.alloc (.cells #[.int .i64 9, .int .i64 0, .int .i64 s, .slice a n c] 55)).grownBy W5 v.ownBlock) (hys : (9, 0, s, ys) = raw m s zs j) (hne : w.heap.size ≠ bo ∧ bs ≠ bo ∧ bn ≠ bo) (hbo : w.heap.size ≤ bo) :
    KeepsFrom B W (W5.setCell ⟨bo, 0, none⟩ v5) ∧ PI w (W5.setCell ⟨bo, 0, none⟩ v5) bo bs bn s sv m zs (j + 1) := by
  have hbW := I.bel.size
  have hV : Below W.heap.size W (Y.alloc (.cells #[.int .i64 9, .int .i64 0, .int .i64 s, .slice a n c] 55)) := hY.alloc hY.size _
  have hnr : ∀ {b t u}, Boxed W b t u → t ≠ 55 → some b ≠ v.ownBlock := fun {b t u} h ht => h.not_row ht hrow.1
  have up : ∀ {b t u}, Boxed W b t u → t ≠ 55 → b ≠ bo → Boxed (W5.setCell ⟨bo, 0, none⟩ v5) b t u := fun {b t u} h ht hb => by
    have h1 : Boxed (Y.alloc (.cells #[.int .i64 9, .int .i64 0, .int .i64 s, .slice a n c] 55)) b t u := (hV.block b h.lt).trans h
    exact (h1.kept hgrow (hnr h ht)).kept (grownBy_set W5 bo 0 v5) (fun e => hb (by injection e))
  have hbx5 : Boxed W5 bo 52 v := Boxed.kept (show Boxed (Y.alloc (.cells #[.int .i64 9, .int .i64 0, .int .i64 s, .slice a n c] 55)) bo 52 v from (hV.block bo hbx.lt).trans hbx) hgrow (hnr hbx (by decide))
  have hlt := hrow.lts
  have hrY := hrow.stays hY
  have hr5 : FrRow W5 w.heap.size v5 (l ++ [⟨9, 0, s, a, n, c, ys⟩]) := hrY.snoc og hbW (fun x hx q hq => (hlt.2 x hx q hq).2) hown hgrow
  have hr6 : FrRow (W5.setCell ⟨bo, 0, none⟩ v5) w.heap.size v5 (l ++ [⟨9, 0, s, a, n, c, ys⟩]) := by
    refine hr5.grown (grownBy_set W5 bo 0 v5) (fun q e => ?_) (fun x hx q e => ?_)
    · injection e with e
      subst e
      exact fun e => (hbx5.not_row (by decide) hr5.1) e.symm
    · injection e with e
      subst e
      exact (hr5.2.1 x hx).other (show W5.heap[bo]? = _ from hbx5) (by decide)
  have hbel : Below w.heap.size w (W5.setCell ⟨bo, 0, none⟩ v5) := by
    have h1 := I.bel.trans (hV.mono hbW)
    exact (h1.grown hgrow h1.size (fun q e => (hlt.1 q e).1)).setCell (p := ⟨bo, 0, none⟩) hbo _
  refine ⟨⟨?_, ?_⟩, up I.str (by decide) hne.1, up I.sb (by decide) hne.2.1, up I.nb (by decide) hne.2.2, ⟨v5, _, hbx5.set v5, hr6, by rw [List.length_append, hlen]; rfl, ?_⟩, hbel⟩
  · have h1 := hV.size
    have h2 := hgrow.size
    simp only [World.size_setCell]
    omega
  · intro q o _ ho hc
    have hq : q < W.heap.size := (Array.getElem?_eq_some_iff.1 ho).1
    have e1 : q ≠ bo := fun e => boxed_ne hbx ho hc e.symm
    rw [set_block_ne W5 q bo 0 v5 e1, hgrow.block q (Nat.lt_of_lt_of_le hq hV.size) (fun e => row_is_cells hrow.1 ho hc e.symm), hV.block q hq]
    exact ho
  · rw [List.map_append, hdat, List.range_succ, List.map_append]
    simp only [List.map_cons, List.map_nil, FE.data, hys]

set_option maxRecDepth 10000 in
set_option maxHeartbeats 3200000 in
theorem implPart_yes (s : Int) (en : Bool) (b off len cap m : Nat) (zs : List Int) (most : Int) (w : World) (hs : Seg w (some ⟨b, off, none⟩) len zs) (hcap : len ≤ cap) (hl : len ≤ 1048576) (h1 : 1 ≤ s) (h2 : s ≤ 2147483647) (hm : clampM most = m) :
    Calls Tryz.prog 35 #[.int .i64 s, .bool en, .slice (some ⟨b, off, none⟩) len cap, .int .i64 most] w fun e w' => ∃ v l, e = .returned v ∧ FrRow w' w.heap.size v l ∧ l.map FE.data = (List.range (pn m len)).map (prt m s en zs) ∧ Below w.heap.size w w' := by
  obtain ⟨i0, hi, hz0, hz1, hz2⟩ := info_parts info_frame
  have HS : Hid (Seg w (some ⟨b, off, none⟩) len zs) := hs
  have hzl : zs.length = len := hs.1
  have hm1 : 1 ≤ m ∧ m ≤ 1000 := by rw [← hm]; exact clampM_range most
  have HM : Hid (clampM most = m) := hm
  obtain ⟨cut, hcut⟩ : ∃ cut : Nat, min m len = cut := ⟨_, rfl⟩
  have hct : (if (len : Int) < (m : Int) then (len : Int) else (m : Int)) = (cut : Int) := by split <;> omega
  have qc : ∀ w : World, (Builtin.min_ #[3, 3] 3 #[.int .i64 m, .int .i64 len]).run Tryz.prog w = .ok (.int .i64 cut) w := fun w => by rw [run_min_int2, hct]
  have hcl : cut ≤ len ∧ cut ≤ 1000 := by omega
  have hcc : (cut : Int) ≤ (cap : Int) := by omega
  have HC : Hid (min m len = cut) := hcut
  have HT : Hid (zs.take cut = (zs.drop (0 * m)).take m) := by
    show _ = _
    rw [Nat.zero_mul, List.drop_zero, ← hcut]
    by_cases h : m ≤ len
    · rw [Nat.min_eq_left h]
    · rw [Nat.min_eq_right (by omega), List.take_of_length_le (by omega), List.take_of_length_le (by omega)]
  clear hct hs hm hcut
  refine (callsIn_wide (n := 4)).1 ?_
  refine callsIn_of_wp_marks Tryz.func35 rfl trivial ?_ rfl
  simp only [Tryz.ntmps35, List.size_toArray, List.length_cons, List.length_nil, Nat.reduceAdd, Nat.reduceSub, Array.replicate_succ, Array.replicate_zero, List.push_toArray, List.append_toArray, List.nil_append, List.cons_append]
  refine wpIn_wide.2 ?_
  go_upto_region 5 with (first
    | (go_at_call 30; refine (blockOk_yes s _ h1 h2).mono ?_; rintro e w' ⟨rfl, rfl⟩)
    | (go_at_call 59; refine (pieceLen_any most m _ HM.out).mono ?_; rintro e w' ⟨rfl, rfl⟩))
  clear qc HM
  obtain ⟨W1, hW1⟩ : ∃ W1, w.alloc (.cells #[.int .i64 s] 3) = W1 := ⟨_, rfl⟩
  have HB1 : Hid (Below w.heap.size w W1) := by show Below _ _ _; rw [← hW1]; exact (Below.refl _ _).alloc (Nat.le_refl _) _
  have HX1 : Hid (Boxed W1 w.heap.size 3 (.int .i64 s)) := by show Boxed _ _ _ _; rw [← hW1]; exact Boxed.new _ _ _
  have HZ1 : Hid (W1.heap.size = w.heap.size + 1) := by show _ = _; rw [← hW1]; simp
  rw [hW1]
  clear hW1
  have HS1 : Hid (∀ W, Below W1.heap.size W1 W → Seg W (some ⟨b, off, none⟩) cut (zs.take cut)) := fun W hW => by
    have h := seg_cut (HS.out.below (HB1.out.trans (hW.mono HB1.out.size))) 0 cut off (by omega) (.inl rfl)
    simpa using h
  have HU : Hid (∀ W, Below W1.heap.size W1 W → Boxed W w.heap.size 3 (.int .i64 s)) := fun W hW => (hW.block _ HX1.out.lt).trans HX1.out
  have c4 := HX1.out.cell
  have n1 : w.heap.size ≠ W1.heap.size := by have := HZ1.out; omega
  go_cut [10] from 12 (fun v10 W => ∃ (bo : Nat) (v : Value) (e : FE), v10 = .pointer (some ⟨bo, 0, none⟩) ∧ w.heap.size < bo ∧ Hid (Boxed W w.heap.size 3 (.int .i64 s) ∧ Boxed W bo 52 v ∧ FrRow W w.heap.size v [e] ∧ Below w.heap.size w W) ∧ Hid (e.data = raw m s zs 0))
  case first =>
    go_region_held3 (fun W => W.cell? ⟨w.heap.size, 0, none⟩ = some (.int .i64 s)) (first | assumption | (refine cell_more ?_; assumption) | (refine cell_more (cell_more ?_); assumption) | (refine cell_else ?_ (cell_more ?_) <;> assumption) | (refine cell_else ?_ (cell_more (cell_more ?_)) <;> assumption)) (first
      | (go_at_call 60; refine (cloneB_any (some ⟨b, off, none⟩) cut cap (zs.take cut) _ (HS1.out _ (Below.refl _ _).drew) (by omega)).mono ?_; rintro e Y ⟨a3, k3, rfl, og, hb⟩; have hb' : Below W1.heap.size W1 Y := (Below.refl W1.heap.size W1).drew.trans (hb.mono (Nat.le_refl _)); have c4' := (HU.out _ hb').cell; have n2 : w.heap.size ≠ Y.heap.size := (by have e1 := hb'.size; have e2 := HZ1.out; omega); have n3 : w.heap.size ≠ Y.heap.size + 1 := (by have e1 := hb'.size; have e2 := HZ1.out; omega); have g1 := ((Boxed.new Y 52 (.slice none 0 0)).alloc (.cells #[.int .i64 1, .int .i64 0, .int .i64 s, .slice a3 cut k3] 55)).cell; have g2 := ((Boxed.new Y 52 (.slice none 0 0)).alloc (.cells #[.int .i64 1, .int .i64 0, .int .i64 s, .slice a3 cut k3] 55)).frozen; have g3 := (Boxed.new (Y.alloc (.cells #[.int .i64 1, .int .i64 0, .int .i64 s, .slice a3 cut k3] 55)) 52 (.slice none 0 0)).cell; have g4 := (Boxed.new (Y.alloc (.cells #[.int .i64 1, .int .i64 0, .int .i64 s, .slice a3 cut k3] 55)) 52 (.slice none 0 0)).frozen; rw [World.size_alloc] at g3 g4)
      | (go_at_call 60; refine (cloneB_any (some ⟨b, off, none⟩) cut cap (zs.take cut) _ (HS1.out _ ((Below.refl W1.heap.size W1).drew.alloc (Nat.le_refl _) _)) (by omega)).mono ?_; rintro e Y ⟨a3, k3, rfl, og, hb⟩; have hb' : Below W1.heap.size W1 Y := ((Below.refl W1.heap.size W1).drew.alloc (Nat.le_refl _) _).trans (hb.mono (by simp)); have c4' := (HU.out _ hb').cell; have n2 : w.heap.size ≠ Y.heap.size := (by have e1 := hb'.size; have e2 := HZ1.out; omega); have n3 : w.heap.size ≠ Y.heap.size + 1 := (by have e1 := hb'.size; have e2 := HZ1.out; omega); have hbx : Boxed Y W1.heap.size 52 (.slice none 0 0) := (hb.block _ (Boxed.new W1.drew 52 (.slice none 0 0)).lt).trans (Boxed.new W1.drew 52 (.slice none 0 0)); have g1 := hbx.cell; have g2 := hbx.frozen; have g3 := (hbx.alloc (.cells #[.int .i64 1, .int .i64 0, .int .i64 s, .slice a3 cut k3] 55)).cell; have g4 := (hbx.alloc (.cells #[.int .i64 1, .int .i64 0, .int .i64 s, .slice a3 cut k3] 55)).frozen)
      | fail)
    · have hB := HB1.out.trans (hb'.mono HB1.out.size)
      have hY := hb'.size
      have hz := HZ1.out
      have R1 := frRow_one (k := 1) (f := 0) (s := s) og (base := w.heap.size) (by show w.heap.size ≤ W1.heap.size; omega) (by omega)
      go_wp2_with fail
      go_meet
      refine ⟨_, _, _, rfl, by omega, ⟨((HU.out _ hb').alloc _).alloc _, ?_, R1.stays ((Below.refl _ _).alloc (Nat.le_refl _) _), (hB.alloc hB.size _).alloc (by simp; omega) _⟩, by show FE.data _ = _; simp only [FE.data, raw]; rw [HT.out]; rfl⟩
      have := Boxed.new (Y.alloc (.cells #[.int .i64 1, .int .i64 0, .int .i64 s, .slice a3 cut k3] 55)) 52 (.slice (some ⟨Y.heap.size, 0, none⟩) 1 1)
      rwa [World.size_alloc] at this
    · have hB := HB1.out.trans (hb'.mono HB1.out.size)
      have hY := hb'.size
      have hz := HZ1.out
      have R1 := frRow_one (k := 1) (f := 0) (s := s) (og.below ((Below.refl Y.heap.size Y).alloc (Nat.le_refl _) (.cells #[.slice (some ⟨Y.heap.size + 1, 0, none⟩) 1 1] 52))) (base := w.heap.size) (by show w.heap.size ≤ W1.heap.size; omega) (by simp; omega)
      rw [World.size_alloc] at R1
      go_wp2_with fail
      go_meet
      exact ⟨_, _, _, rfl, by omega, ⟨((HU.out _ hb').alloc _).alloc _, (Boxed.new Y 52 (.slice (some ⟨Y.heap.size + 1, 0, none⟩) 1 1)).alloc _, R1, (hB.alloc hB.size _).alloc (by simp; omega) _⟩, by show FE.data _ = _; simp only [FE.data, raw]; rw [HT.out]; rfl⟩
    · have hB := HB1.out.trans (hb'.mono HB1.out.size)
      have hY := hb'.size
      have hz := HZ1.out
      have R1 := frRow_one (k := 1) (f := 0) (s := s) og (base := w.heap.size) (by simp; omega) (by omega)
      have R2 := stored_row ((HU.out _ hb').alloc (.cells #[.int .i64 1, .int .i64 0, .int .i64 s, .slice a3 cut k3] 55)) (hbx.alloc _) R1 (hB.alloc hB.size _) (by omega)
      go_wp2_with fail
      go_meet
      exact ⟨_, _, _, rfl, by omega, R2, by show FE.data _ = _; simp only [FE.data, raw]; rw [HT.out]; rfl⟩
  case rest =>
  obtain ⟨bo, v, e, rfl, hbo, HP, HD⟩ := hcut
  obtain ⟨W2, hW2⟩ : ∃ W2, wc = W2 := ⟨_, rfl⟩
  rw [hW2] at HP ⊢
  clear hW2 HS1 HU c4 n1 HT HX1 HB1 HZ1 W1
  go_upto_region 6 with fail
  have hsm : 1 ≤ m := hm1.1
  go_cut [33] from 12 (fun v34 W => ∃ o : Nat, v34 = .func (.func 77) #[] #[.pointer (some ⟨W2.heap.size, 0, none⟩), .pointer (some ⟨W2.heap.size + 1, 0, none⟩)] ∧ Hid (W = (W2.alloc (.cells #[.slice (some ⟨b, o, none⟩) (len - cut) (cap - cut)] 27)).alloc (.cells #[.int .i64 m] 3)) ∧ Hid (0 < len - cut → o = off + cut))
  case first =>
    have hcl2 : (cut : Int) ≤ (len : Int) := by omega
    by_cases hcc2 : cap = cut
    · have HCL : Hid (cut ≤ len ∧ len ≤ cap ∧ cap = cut) := ⟨hcl.1, hcap, hcc2⟩
      subst hcc2
      go_wp2_with (go_at_call 61; refine (callsIn_wide.1 (chunk_any _ _ _ m _ 4 hsm)).mono ?_; rintro e w5 ⟨rfl, rfl⟩)
      go_meet
      exact ⟨off, rfl, by have h9 := HCL.out; show _ = _; rw [show len - cap = 0 by omega, Nat.sub_self], fun h => by have := HCL.out; omega⟩
    · go_wp2_with (go_at_call 61; refine (callsIn_wide.1 (chunk_any _ _ _ m _ 4 hsm)).mono ?_; rintro e w5 ⟨rfl, rfl⟩)
      go_meet
      exact ⟨off + cut, rfl, rfl, fun h => rfl⟩
  case rest =>
  obtain ⟨o, rfl, hW, HO⟩ := hcut
  obtain ⟨W3, hW3⟩ : ∃ W3, (W2.alloc (.cells #[.slice (some ⟨b, o, none⟩) (len - cut) (cap - cut)] 27)).alloc (.cells #[.int .i64 m] 3) = W3 := ⟨_, rfl⟩
  have hW' := hW.out
  rw [hW3] at hW'
  rw [hW']
  clear hW hW'
  obtain ⟨L, hL⟩ : ∃ L, len - cut = L := ⟨_, rfl⟩
  obtain ⟨C, hC⟩ : ∃ C, cap - cut = C := ⟨_, rfl⟩
  rw [hL, hC] at hW3
  rw [hL] at HO
  have HL : Hid (0 < L → o = off + m ∧ len = L + m) := fun h => by
    have h3 := HC.out
    have h4 := HO.out h
    omega
  have HL0 : Hid (L ≤ 1048576 ∧ L ≤ C ∧ (¬ 0 < L → len ≤ m)) := by
    have h3 := HC.out
    show _ ∧ _ ∧ _
    omega
  have I0 : PI w W3 bo W2.heap.size (W2.heap.size + 1) s (.slice (some ⟨b, o, none⟩) L C) m zs 1 := by
    obtain ⟨p1, p2, p3, p4⟩ := HP.out
    rw [← hW3]
    refine ⟨(p1.alloc _).alloc _, (Boxed.new _ _ _).alloc _, ?_, ⟨v, [e], (p2.alloc _).alloc _, p3.stays (((Below.refl _ _).alloc (Nat.le_refl _) _).alloc (by simp) _), rfl, ?_⟩, (p4.alloc p4.size _).alloc (by have := p4.size; simp; omega) _⟩
    · have := Boxed.new (W2.alloc (.cells #[.slice (some ⟨b, o, none⟩) L C] 27)) 3 (.int .i64 m)
      rwa [World.size_alloc] at this
    · have := HD.out
      simp [List.range_succ, this]
  have HI0 : Hid (PI w W3 bo W2.heap.size (W2.heap.size + 1) s (.slice (some ⟨b, o, none⟩) L C) m zs 1) := I0
  have hsz : w.heap.size < W3.heap.size ∧ bo < W3.heap.size ∧ W3.heap.size = W2.heap.size + 2 := by
    have h4 := I0.str.lt
    obtain ⟨_, _, h5, _⟩ := I0.row
    have h6 := h5.lt
    refine ⟨h4, h6, ?_⟩
    rw [← hW3]
    simp
  have hbl := HP.out.2.2.2.size
  clear I0 hW3 HP HD HO hL hC HC e v
  obtain ⟨bs, hbs⟩ : ∃ bs, W2.heap.size = bs := ⟨_, rfl⟩
  rw [hbs] at HI0 hsz ⊢
  clear hbs
  obtain ⟨n, hn⟩ : ∃ n, pn m len = n := ⟨_, rfl⟩
  have HN : Hid (∀ j, (j < n ↔ j = 0 ∨ j * m < len)) := fun j => by rw [← hn]; exact pn_lt hm1.1
  have HNN : Hid (pn m len = n) := hn
  have hn1 : 1 ≤ n ∧ n ≤ len + 1 := by rw [← hn]; exact ⟨pn_pos m len, pn_le m len hm1.1⟩
  have HOw : Hid (∀ (f : Nat → Nat) (Q : Nat → Prop), OwnFrom W3.heap.size (fun (k : Nat) W => Q k ∧ PI w W bo bs (bs + 1) s (.slice (some ⟨b, o, none⟩) L C) m zs (f k))) := fun f Q k W W' row hs hg hr =>
    ⟨hs.1, hs.2.kept (B := W3.heap.size) (by omega) hg hr⟩
  have HE1 : Hid (¬ 0 < L → n = 1) := fun h => by
    have h3 := (HN.out 1).1
    have h4 := (HL0.out.2.2 h)
    rw [Nat.one_mul] at h3
    omega
  have HE2 : Hid (∀ k, k * m < L → (¬ (k + 1) * m < L → n = k + 2)) := fun k h h3 => by
    have h4 := HL.out (by omega)
    have h5 := HN.out (k + 1)
    have h6 := HN.out (k + 2)
    have e1 : (k + 1) * m = k * m + m := by rw [Nat.add_mul, Nat.one_mul]
    have e2 : (k + 2) * m = k * m + 2 * m := by rw [Nat.add_mul]
    rw [e1] at h5 h3
    rw [e2] at h6
    omega
  clear hn
  go_wp2_with fail
  refine (wpIn_wide (n := 4)).1 ?_
  refine loop_turns (n := 4) rfl (by decide) (gf := 77) (lb := #[.pointer (some ⟨bs, 0, none⟩), .pointer (some ⟨bs + 1, 0, none⟩)]) rfl trivial (enters_of Tryz.func77 (by kernel_rfl) rfl) (encC b o m L) (fun _ => rfl)
    (fun (k : Nat) W => k * m < L ∧ PI w W bo bs (bs + 1) s (.slice (some ⟨b, o, none⟩) L C) m zs (k + 1))
    (fun (k : Nat) W => k * m < L ∧ PI w W bo bs (bs + 1) s (.slice (some ⟨b, o, none⟩) L C) m zs (k + 2))
    (fun _ _ _ => False)
    (fun (k : Nat) W => True ∧ PI w W bo bs (bs + 1) s (.slice (some ⟨b, o, none⟩) L C) m zs n)
    (fun W => True ∧ PI w W bo bs (bs + 1) s (.slice (some ⟨b, o, none⟩) L C) m zs 1)
    (chunk_iter 3 _ bs (bs + 1) b o L C m (by decide) HL0.out.1 HL0.out.2.1 hm1.1 hm1.2 _ _ _ _ _
      (fun W h => ⟨h.2.sb, h.2.nb, fun h0 => ⟨by rw [Nat.zero_mul]; exact h0, h.2⟩, fun h0 => ⟨trivial, by rw [HE1.out h0]; exact h.2⟩⟩)
      (fun k W h => ⟨h.1, h.2.drew⟩)
      (fun k W h => ⟨h.2.sb, h.2.nb⟩)
      (fun k W h => ⟨h.2.sb, h.2.nb, fun h0 => ⟨h0, h.2⟩, fun h0 => ⟨trivial, by rw [HE2.out k h.1 h0]; exact h.2⟩⟩))
    (HOw.out (fun k => k + 1) (fun k => k * m < L)) (HOw.out (fun k => k + 2) (fun k => k * m < L)) (fun c s W W' row hs hg hr => hs)
    (fun s W W' row hs hg hr => (HOw.out (fun _ => n) (fun _ => True)) 0 W W' row hs hg hr) (fun s W W' row hs hg hr => (HOw.out (fun _ => 1) (fun _ => True)) 0 W W' row hs hg hr)
    ⟨trivial, HI0.out⟩ ?frame ?assign ?body ?done ?stop
  case assign =>
    intro l s W K hK
    gi_wp2
    exact hK
  case body =>
    rintro l k W ⟨hk, I⟩
    have HI : Hid (PI w W bo bs (bs + 1) s (.slice (some ⟨b, o, none⟩) L C) m zs (k + 1)) := I
    obtain ⟨v, ll, hbx, hrow, hlen, hdat⟩ := I.row
    obtain ⟨va, vc, rfl⟩ := hrow.shape
    have hLm := HL.out (by omega)
    obtain ⟨F, hF⟩ : ∃ F, k * m = F := ⟨_, rfl⟩
    have hF2 : (k + 1) * m = F + m := by rw [Nat.add_mul, Nat.one_mul, hF]
    obtain ⟨pl, hpl⟩ : ∃ pl, pcLen m L k = pl := ⟨_, rfl⟩
    have hpl2 : pl = min m (L - F) := by rw [← hpl, pcLen, hF]
    have hpa : pcAt o m k = off + (F + m) := by rw [pcAt, hF]; omega
    have hplb : pl ≤ 1000 := by omega
    have hk2 := hk
    rw [hF] at hk
    obtain ⟨ys, hys⟩ : ∃ ys, (zs.drop (F + m)).take pl = ys := ⟨_, rfl⟩
    have HYs : Hid ((9, 0, s, ys) = raw m s zs (k + 1)) := by
      show _ = _
      rw [raw, hF2, ← hys, if_neg (by omega)]
      congr 3
      by_cases h : m ≤ L - F
      · rw [hpl2, Nat.min_eq_left h]
      · rw [hpl2, Nat.min_eq_right (by omega), List.take_of_length_le (by rw [List.length_drop]; omega), List.take_of_length_le (by rw [List.length_drop]; omega)]
    have HSg : Hid (∀ V, Below W.heap.size W V → Seg V (some ⟨b, off + (F + m), none⟩) pl ys) := fun V hV => by
      have h := seg_part (HS.out.below (HI.out.bel.trans (hV.mono HI.out.bel.size))) (F + m) pl (by omega)
      rw [hys] at h
      exact h
    rw [hlen] at hrow
    have HR : Hid (FrRow W w.heap.size (.slice va (k + 1) vc) ll) := hrow
    have HX : Hid (Boxed W bo 52 (.slice va (k + 1) vc)) := by rw [hlen] at hbx; exact hbx
    have HLn : Hid (ll.length = k + 1) := hlen
    have HDt : Hid (ll.map FE.data = (List.range (k + 1)).map (raw m s zs)) := hdat
    have HKb : Hid (k + 2 ≤ 1048577) := by
      show _ ≤ _
      have h3 : k * 1 ≤ k * m := Nat.mul_le_mul_left k hm1.1
      omega
    have HSz : Hid (w.heap.size ≤ W.heap.size) := I.bel.size
    have HNe : Hid (w.heap.size ≠ bo ∧ bs ≠ bo ∧ bs + 1 ≠ bo) := by
      have h1 := HI.out.sb
      have h2 := HI.out.nb
      have h3 := HX.out
      refine ⟨by omega, fun e => ?_, fun e => ?_⟩
      · rw [e, Boxed, show W.heap[bo]? = _ from h3] at h1
        cases h1
      · rw [e, Boxed, show W.heap[bo]? = _ from h3] at h2
        cases h2
    have c4 := I.str.cell
    have c10 := HX.out.cell
    have hmx : Tryz.prog.follows .mixedOrders = true := by kernel_rfl
    rw [hpl, hpa]
    clear hys hpl hpl2 hpa hF hF2 hbx hrow hlen hdat I hLm
    gi_wp2_with fail
    refine region_in_round (S := fun V => V.cell? ⟨w.heap.size, 0, none⟩ = some (.int .i64 s)) hmx ?hd ?hq c4 (fun hS => ?hm)
    case hd =>
      intro i o ho c hc
      rcases i with _ | i
      · injection ho with ho; subst ho; cases hc
      rcases i with _ | i
      · injection ho with ho; subst ho; cases hc
      rcases i with _ | i
      · injection ho with ho; subst ho; cases hc
      rcases i with _ | i
      · injection ho with ho; subst ho; cases hc
      rcases i with _ | i
      · injection ho with ho; subst ho; cases hc
      rcases i with _ | i
      · injection ho with ho; subst ho; cases hc
      rcases i with _ | i
      · injection ho with ho; subst ho; cases hc
      rcases i with _ | i
      · injection ho with ho; subst ho; cases hc
      simp at ho
    case hq => rintro ⟨a, w, h⟩; exact h
    case hm =>
    refine wpAnyH_take (i := 1) (oi := ({ dst := some 36, op := Op.load 3 (Operand.tmp 4), type := 3, pos := "l08_gather.go:62", after := #[], guard := none } : Oper)) (v := ?tva) rfl (by kernel_rfl) (by kernel_rfl) (by kernel_rfl) (fun _ _ _ h => h) (Or.inl ⟨by rfl, ?tya⟩) (by assumption) ?tra
    case tya => (intro w hSw; (try dsimp only at hSw); go_simp <;> with_reducible rfl)
    simp only [Act.put, List.setIfInBounds_toArray, List.set_cons_zero, List.set_cons_succ]
    refine wpAnyH_take (i := 2) (oi := ({ dst := some 37, op := Op.move (Operand.tmp 11), type := 27, pos := "l08_gather.go:62", after := #[], guard := none } : Oper)) (v := ?tvb) rfl (by kernel_rfl) (by kernel_rfl) (by kernel_rfl) (fun _ _ _ h => h) (Or.inl ⟨by rfl, ?tyb⟩) (by assumption) ?trb
    case tyb => (intro w hSw; (try dsimp only at hSw); go_simp <;> with_reducible rfl)
    simp only [Act.put, List.setIfInBounds_toArray, List.set_cons_zero, List.set_cons_succ]
    refine wpAnyH_ready (rs := [0, 3]) (by kernel_rfl) (by simp) ?_
    refine AllReadyH.cons (o := ({ dst := some 35, op := Op.load 52 (Operand.tmp 10), type := 52, pos := "l08_gather.go:62", after := #[], guard := none } : Oper)) rfl (fun K hK => ?_) (AllReadyH.cons (o := ({ dst := some 38, op := Op.call { callee := Callee.value (Operand.func 60), args := #[Operand.tmp 37], argTypes := #[27] }, type := 27, pos := "l08_gather.go:62", after := #[{ on := 2, ground := Ground.data }], guard := none } : Oper)) rfl (fun K hK => ?_) AllReadyH.nil)
    · go_simp
      refine hK.out _ _ (by assumption) (fun hHeld => ?_)
      clear hK K
      try simp only [Act.put, List.setIfInBounds_toArray, List.set_cons_zero, List.set_cons_succ]
      refine wpAnyH_ready (rs := [3]) (by kernel_rfl) (by simp) ?_
      refine AllReadyH.cons (o := ({ dst := some 38, op := Op.call { callee := Callee.value (Operand.func 60), args := #[Operand.tmp 37], argTypes := #[27] }, type := 27, pos := "l08_gather.go:62", after := #[{ on := 2, ground := Ground.data }], guard := none } : Oper)) rfl (fun K hK => ?_) AllReadyH.nil
      go_simp
      refine (cloneB_any _ pl pl ys _ (HSg.out _ (Below.refl _ _).drew) (by omega)).mono ?_
      rintro e Y ⟨a3, k3, rfl, og, hb⟩
      have hbY : Below W.heap.size W Y := (Below.refl W.heap.size W).drew.trans (hb.mono (Nat.le_refl _))
      have hV : Below W.heap.size W (Y.alloc (.cells #[.int .i64 9, .int .i64 0, .int .i64 s, .slice a3 pl k3] 55)) := hbY.alloc hbY.size _
      obtain ⟨v5, W5, hrun, hown5, hgrow5, _⟩ := run_append_own (P := Tryz.prog) (Y.alloc (.cells #[.int .i64 9, .int .i64 0, .int .i64 s, .slice a3 pl k3] 55)) w.heap.size 52 52 55 i0 (.agg #[.int .i64 0, .int .i64 0, .int .i64 0, .slice none 0 0]) 4 48 Tryz.underlying52 hi hz0 hz1 hz2 rfl (by decide) (.slice va (k + 1) vc) (k + 1) (feCells ll) (by have := (HR.out.stays hV).1; rw [HLn.out] at this; exact this) ⟨Y.heap.size, 0, none⟩ 1 1 (FE.cells ⟨9, 0, s, a3, pl, k3, ys⟩) rfl (four_new Y 9 0 s a3 pl k3 ys) (four_one 9 0 s a3 pl k3 ys) (by have := HKb.out; unfold maxLen; omega) (by have := HKb.out; omega) (by have h1 := hV.size; have h2 := HSz.out; omega)
      obtain ⟨g5, k5, rfl⟩ := ownsRow_succ hown5
      have HRun : Hid ((Builtin.append_ #[52, 52] 52 #[.slice va (k + 1) vc, .slice (some ⟨Y.heap.size, 0, none⟩) 1 1]).run Tryz.prog (Y.alloc (.cells #[.int .i64 9, .int .i64 0, .int .i64 s, .slice a3 pl k3] 55)) = .ok (.slice (some ⟨g5, 0, none⟩) (k + 1 + 1) k5) W5) := hrun
      clear hrun
      have d4 := (hbY.cell (p := ⟨w.heap.size, 0, none⟩) (lt_of_cell c4)).trans c4
      have d10 := (hbY.cell (p := ⟨bo, 0, none⟩) (lt_of_cell c10)).trans c10
      have e4 := (hV.cell (p := ⟨w.heap.size, 0, none⟩) (lt_of_cell c4)).trans c4
      have e10 := (hV.cell (p := ⟨bo, 0, none⟩) (lt_of_cell c10)).trans c10
      have x5 : Boxed W5 bo 52 (.slice va (k + 1) vc) := Boxed.kept (show Boxed _ bo 52 (.slice va (k + 1) vc) from (hV.block bo HX.out.lt).trans HX.out) hgrow5 (HX.out.not_row (by decide) HR.out.1)
      have g10 := x5.cell
      have f10 := x5.frozen
      have hst := HI.out.step (B := W3.heap.size) HX.out HR.out HLn.out HDt.out hbY og (by rw [HLn.out]; exact hown5) hgrow5 HYs.out HNe.out (by omega)
      have m4 : W5.cell? ⟨w.heap.size, 0, none⟩ = some (.int .i64 s) := (Boxed.kept (show Boxed _ w.heap.size 3 (.int .i64 s) from (hV.block _ HI.out.str.lt).trans HI.out.str) hgrow5 (HI.out.str.not_row (by decide) HR.out.1)).cell
      have n4 : (W5.setCell ⟨bo, 0, none⟩ (.slice (some ⟨g5, 0, none⟩) (k + 1 + 1) k5)).cell? ⟨w.heap.size, 0, none⟩ = some (.int .i64 s) := cell_else HNe.out.1 m4
      have HST : Hid (KeepsFrom W3.heap.size W (W5.setCell ⟨bo, 0, none⟩ (.slice (some ⟨g5, 0, none⟩) (k + 1 + 1) k5)) ∧ PI w (W5.setCell ⟨bo, 0, none⟩ (.slice (some ⟨g5, 0, none⟩) (k + 1 + 1) k5)) bo bs (bs + 1) s (.slice (some ⟨b, o, none⟩) L C) m zs (k + 1 + 1)) := hst
      clear hst hown5 hgrow5 og hb hbY hV x5
      go_wp2_with fail
      refine hK.out _ _ (by assumption) (fun hHeld => ?_)
      clear hK K
      try simp only [Act.put, List.setIfInBounds_toArray, List.set_cons_zero, List.set_cons_succ]
      refine wpAnyH_take (i := 4) (oi := ({ dst := some 39, op := Op.build 55 #[(0, Operand.const (Value.int IntKind.i64 9)), (2, Operand.tmp 36), (3, Operand.tmp 38)], type := 55, pos := "l08_gather.go:62", after := #[{ on := 1, ground := Ground.data }, { on := 3, ground := Ground.data }], guard := none } : Oper)) (v := ?tvc) rfl (by kernel_rfl) (by kernel_rfl) (by kernel_rfl) (fun _ _ _ h => h) (Or.inl ⟨by rfl, ?tyc⟩) (by assumption) ?trc
      case tyc => (intro w hSw; (try dsimp only at hSw); go_simp <;> with_reducible rfl)
      simp only [Act.put, List.setIfInBounds_toArray, List.set_cons_zero, List.set_cons_succ]
      refine wpAnyH_ready (rs := [5]) (by kernel_rfl) (by simp) ?_
      refine AllReadyH.cons (o := ({ dst := some 40, op := Op.buildSlice 52 1 #[(0, Operand.tmp 39)], type := 52, pos := "l08_gather.go:62", after := #[{ on := 4, ground := Ground.data }], guard := none } : Oper)) rfl (fun K hK => ?_) AllReadyH.nil
      go_simp
      refine hK.out _ _ (by assumption) (fun hHeld => ?_)
      clear hK K
      try simp only [Act.put, List.setIfInBounds_toArray, List.set_cons_zero, List.set_cons_succ]
      refine wpAnyH_ready (rs := [6]) (by kernel_rfl) (by simp) ?_
      refine AllReadyH.cons (o := ({ dst := some 41, op := Op.call { callee := Callee.builtin Builtin.append, args := #[Operand.tmp 35, Operand.tmp 40], argTypes := #[52, 52] }, type := 52, pos := "l08_gather.go:62", after := #[{ on := 0, ground := Ground.data }, { on := 5, ground := Ground.data }, { on := 3, ground := Ground.chain }], guard := none } : Oper)) rfl (fun K hK => ?_) AllReadyH.nil
      refine step_append_run rfl (.tmp 35) (.tmp 40) 52 rfl _ _ _ rfl rfl HRun.out ?_
      refine hK.out _ _ (by assumption) (fun hHeld => ?_)
      clear hK K
      try simp only [Act.put, List.setIfInBounds_toArray, List.set_cons_zero, List.set_cons_succ]
      refine wpAnyH_ready (rs := [7]) (by kernel_rfl) (by simp) ?_
      refine AllReadyH.cons (o := ({ dst := none, op := Op.store 52 (Operand.tmp 10) (Operand.tmp 41), type := 0, pos := "l08_gather.go:62", after := #[{ on := 6, ground := Ground.data }, { on := 6, ground := Ground.chain }, { on := 0, ground := Ground.phase }, { on := 1, ground := Ground.phase }, { on := 2, ground := Ground.phase }, { on := 3, ground := Ground.phase }, { on := 4, ground := Ground.phase }, { on := 5, ground := Ground.phase }, { on := 6, ground := Ground.phase }], guard := none } : Oper)) rfl (fun K hK => ?_) AllReadyH.nil
      go_simp
      refine hK.out _ _ (by assumption) (fun hHeld => ?_)
      clear hK K
      try simp only [Act.put, List.setIfInBounds_toArray, List.set_cons_zero, List.set_cons_succ]
      refine wpAnyH_done (by kernel_rfl) ?_ _
      clear hHeld
      gi_wp2_with fail
      exact ⟨HST.out.1, hk2, HST.out.2⟩
    · go_simp
      refine (cloneB_any _ pl pl ys _ (HSg.out _ (Below.refl _ _).drew) (by omega)).mono ?_
      rintro e Y ⟨a3, k3, rfl, og, hb⟩
      have hbY : Below W.heap.size W Y := (Below.refl W.heap.size W).drew.trans (hb.mono (Nat.le_refl _))
      have hV : Below W.heap.size W (Y.alloc (.cells #[.int .i64 9, .int .i64 0, .int .i64 s, .slice a3 pl k3] 55)) := hbY.alloc hbY.size _
      obtain ⟨v5, W5, hrun, hown5, hgrow5, _⟩ := run_append_own (P := Tryz.prog) (Y.alloc (.cells #[.int .i64 9, .int .i64 0, .int .i64 s, .slice a3 pl k3] 55)) w.heap.size 52 52 55 i0 (.agg #[.int .i64 0, .int .i64 0, .int .i64 0, .slice none 0 0]) 4 48 Tryz.underlying52 hi hz0 hz1 hz2 rfl (by decide) (.slice va (k + 1) vc) (k + 1) (feCells ll) (by have := (HR.out.stays hV).1; rw [HLn.out] at this; exact this) ⟨Y.heap.size, 0, none⟩ 1 1 (FE.cells ⟨9, 0, s, a3, pl, k3, ys⟩) rfl (four_new Y 9 0 s a3 pl k3 ys) (four_one 9 0 s a3 pl k3 ys) (by have := HKb.out; unfold maxLen; omega) (by have := HKb.out; omega) (by have h1 := hV.size; have h2 := HSz.out; omega)
      obtain ⟨g5, k5, rfl⟩ := ownsRow_succ hown5
      have HRun : Hid ((Builtin.append_ #[52, 52] 52 #[.slice va (k + 1) vc, .slice (some ⟨Y.heap.size, 0, none⟩) 1 1]).run Tryz.prog (Y.alloc (.cells #[.int .i64 9, .int .i64 0, .int .i64 s, .slice a3 pl k3] 55)) = .ok (.slice (some ⟨g5, 0, none⟩) (k + 1 + 1) k5) W5) := hrun
      clear hrun
      have d4 := (hbY.cell (p := ⟨w.heap.size, 0, none⟩) (lt_of_cell c4)).trans c4
      have d10 := (hbY.cell (p := ⟨bo, 0, none⟩) (lt_of_cell c10)).trans c10
      have e4 := (hV.cell (p := ⟨w.heap.size, 0, none⟩) (lt_of_cell c4)).trans c4
      have e10 := (hV.cell (p := ⟨bo, 0, none⟩) (lt_of_cell c10)).trans c10
      have x5 : Boxed W5 bo 52 (.slice va (k + 1) vc) := Boxed.kept (show Boxed _ bo 52 (.slice va (k + 1) vc) from (hV.block bo HX.out.lt).trans HX.out) hgrow5 (HX.out.not_row (by decide) HR.out.1)
      have g10 := x5.cell
      have f10 := x5.frozen
      have hst := HI.out.step (B := W3.heap.size) HX.out HR.out HLn.out HDt.out hbY og (by rw [HLn.out]; exact hown5) hgrow5 HYs.out HNe.out (by omega)
      have m4 : W5.cell? ⟨w.heap.size, 0, none⟩ = some (.int .i64 s) := (Boxed.kept (show Boxed _ w.heap.size 3 (.int .i64 s) from (hV.block _ HI.out.str.lt).trans HI.out.str) hgrow5 (HI.out.str.not_row (by decide) HR.out.1)).cell
      have n4 : (W5.setCell ⟨bo, 0, none⟩ (.slice (some ⟨g5, 0, none⟩) (k + 1 + 1) k5)).cell? ⟨w.heap.size, 0, none⟩ = some (.int .i64 s) := cell_else HNe.out.1 m4
      have HST : Hid (KeepsFrom W3.heap.size W (W5.setCell ⟨bo, 0, none⟩ (.slice (some ⟨g5, 0, none⟩) (k + 1 + 1) k5)) ∧ PI w (W5.setCell ⟨bo, 0, none⟩ (.slice (some ⟨g5, 0, none⟩) (k + 1 + 1) k5)) bo bs (bs + 1) s (.slice (some ⟨b, o, none⟩) L C) m zs (k + 1 + 1)) := hst
      clear hst hown5 hgrow5 og hb hbY hV x5
      go_wp2_with fail
      refine hK.out _ _ (by assumption) (fun hHeld => ?_)
      clear hK K
      try simp only [Act.put, List.setIfInBounds_toArray, List.set_cons_zero, List.set_cons_succ]
      refine wpAnyH_take (i := 4) (oi := ({ dst := some 39, op := Op.build 55 #[(0, Operand.const (Value.int IntKind.i64 9)), (2, Operand.tmp 36), (3, Operand.tmp 38)], type := 55, pos := "l08_gather.go:62", after := #[{ on := 1, ground := Ground.data }, { on := 3, ground := Ground.data }], guard := none } : Oper)) (v := ?tvd) rfl (by kernel_rfl) (by kernel_rfl) (by kernel_rfl) (fun _ _ _ h => h) (Or.inl ⟨by rfl, ?tyd⟩) (by assumption) ?trd
      case tyd => (intro w hSw; (try dsimp only at hSw); go_simp <;> with_reducible rfl)
      simp only [Act.put, List.setIfInBounds_toArray, List.set_cons_zero, List.set_cons_succ]
      refine wpAnyH_ready (rs := [0, 5]) (by kernel_rfl) (by simp) ?_
      refine AllReadyH.cons (o := ({ dst := some 35, op := Op.load 52 (Operand.tmp 10), type := 52, pos := "l08_gather.go:62", after := #[], guard := none } : Oper)) rfl (fun K hK => ?_) (AllReadyH.cons (o := ({ dst := some 40, op := Op.buildSlice 52 1 #[(0, Operand.tmp 39)], type := 52, pos := "l08_gather.go:62", after := #[{ on := 4, ground := Ground.data }], guard := none } : Oper)) rfl (fun K hK => ?_) AllReadyH.nil)
      · go_simp
        refine hK.out _ _ (by assumption) (fun hHeld => ?_)
        clear hK K
        try simp only [Act.put, List.setIfInBounds_toArray, List.set_cons_zero, List.set_cons_succ]
        refine wpAnyH_ready (rs := [5]) (by kernel_rfl) (by simp) ?_
        refine AllReadyH.cons (o := ({ dst := some 40, op := Op.buildSlice 52 1 #[(0, Operand.tmp 39)], type := 52, pos := "l08_gather.go:62", after := #[{ on := 4, ground := Ground.data }], guard := none } : Oper)) rfl (fun K hK => ?_) AllReadyH.nil
        go_simp
        refine hK.out _ _ (by assumption) (fun hHeld => ?_)
        clear hK K
        try simp only [Act.put, List.setIfInBounds_toArray, List.set_cons_zero, List.set_cons_succ]
        refine wpAnyH_ready (rs := [6]) (by kernel_rfl) (by simp) ?_
        refine AllReadyH.cons (o := ({ dst := some 41, op := Op.call { callee := Callee.builtin Builtin.append, args := #[Operand.tmp 35, Operand.tmp 40], argTypes := #[52, 52] }, type := 52, pos := "l08_gather.go:62", after := #[{ on := 0, ground := Ground.data }, { on := 5, ground := Ground.data }, { on := 3, ground := Ground.chain }], guard := none } : Oper)) rfl (fun K hK => ?_) AllReadyH.nil
        refine step_append_run rfl (.tmp 35) (.tmp 40) 52 rfl _ _ _ rfl rfl HRun.out ?_
        refine hK.out _ _ (by assumption) (fun hHeld => ?_)
        clear hK K
        try simp only [Act.put, List.setIfInBounds_toArray, List.set_cons_zero, List.set_cons_succ]
        refine wpAnyH_ready (rs := [7]) (by kernel_rfl) (by simp) ?_
        refine AllReadyH.cons (o := ({ dst := none, op := Op.store 52 (Operand.tmp 10) (Operand.tmp 41), type := 0, pos := "l08_gather.go:62", after := #[{ on := 6, ground := Ground.data }, { on := 6, ground := Ground.chain }, { on := 0, ground := Ground.phase }, { on := 1, ground := Ground.phase }, { on := 2, ground := Ground.phase }, { on := 3, ground := Ground.phase }, { on := 4, ground := Ground.phase }, { on := 5, ground := Ground.phase }, { on := 6, ground := Ground.phase }], guard := none } : Oper)) rfl (fun K hK => ?_) AllReadyH.nil
        go_simp
        refine hK.out _ _ (by assumption) (fun hHeld => ?_)
        clear hK K
        try simp only [Act.put, List.setIfInBounds_toArray, List.set_cons_zero, List.set_cons_succ]
        refine wpAnyH_done (by kernel_rfl) ?_ _
        clear hHeld
        gi_wp2_with fail
        exact ⟨HST.out.1, hk2, HST.out.2⟩
      · go_simp
        refine hK.out _ _ (by assumption) (fun hHeld => ?_)
        clear hK K
        try simp only [Act.put, List.setIfInBounds_toArray, List.set_cons_zero, List.set_cons_succ]
        refine wpAnyH_ready (rs := [0]) (by kernel_rfl) (by simp) ?_
        refine AllReadyH.cons (o := ({ dst := some 35, op := Op.load 52 (Operand.tmp 10), type := 52, pos := "l08_gather.go:62", after := #[], guard := none } : Oper)) rfl (fun K hK => ?_) AllReadyH.nil
        go_simp
        refine hK.out _ _ (by assumption) (fun hHeld => ?_)
        clear hK K
        try simp only [Act.put, List.setIfInBounds_toArray, List.set_cons_zero, List.set_cons_succ]
        refine wpAnyH_ready (rs := [6]) (by kernel_rfl) (by simp) ?_
        refine AllReadyH.cons (o := ({ dst := some 41, op := Op.call { callee := Callee.builtin Builtin.append, args := #[Operand.tmp 35, Operand.tmp 40], argTypes := #[52, 52] }, type := 52, pos := "l08_gather.go:62", after := #[{ on := 0, ground := Ground.data }, { on := 5, ground := Ground.data }, { on := 3, ground := Ground.chain }], guard := none } : Oper)) rfl (fun K hK => ?_) AllReadyH.nil
        refine step_append_run rfl (.tmp 35) (.tmp 40) 52 rfl _ _ _ rfl rfl HRun.out ?_
        refine hK.out _ _ (by assumption) (fun hHeld => ?_)
        clear hK K
        try simp only [Act.put, List.setIfInBounds_toArray, List.set_cons_zero, List.set_cons_succ]
        refine wpAnyH_ready (rs := [7]) (by kernel_rfl) (by simp) ?_
        refine AllReadyH.cons (o := ({ dst := none, op := Op.store 52 (Operand.tmp 10) (Operand.tmp 41), type := 0, pos := "l08_gather.go:62", after := #[{ on := 6, ground := Ground.data }, { on := 6, ground := Ground.chain }, { on := 0, ground := Ground.phase }, { on := 1, ground := Ground.phase }, { on := 2, ground := Ground.phase }, { on := 3, ground := Ground.phase }, { on := 4, ground := Ground.phase }, { on := 5, ground := Ground.phase }, { on := 6, ground := Ground.phase }], guard := none } : Oper)) rfl (fun K hK => ?_) AllReadyH.nil
        go_simp
        refine hK.out _ _ (by assumption) (fun hHeld => ?_)
        clear hK K
        try simp only [Act.put, List.setIfInBounds_toArray, List.set_cons_zero, List.set_cons_succ]
        refine wpAnyH_done (by kernel_rfl) ?_ _
        clear hHeld
        gi_wp2_with fail
        exact ⟨HST.out.1, hk2, HST.out.2⟩
  case done =>
    rintro D k W hD ⟨_, I⟩ hK
    obtain ⟨P, hP⟩ : ∃ P, n = P + 1 := ⟨n - 1, by omega⟩
    subst hP
    obtain ⟨v, l, hbx, hrow, hlen, hdat⟩ := I.row
    obtain ⟨va, vc, rfl⟩ := hrow.shape
    rw [hlen] at hbx hrow
    obtain ⟨g, hg0⟩ : ∃ g, va = some ⟨g, 0, none⟩ := by
      obtain ⟨g, e, _⟩ := hrow.at hlen.symm (i := 0) (by omega)
      exact ⟨g, e⟩
    subst hg0
    have hfl : ∀ j (hj : j < l.length), (l[j]).f = 0 := fun j hj => by
      have h2 : (l.map FE.data)[j]? = ((List.range (P + 1)).map (raw m s zs))[j]? := by rw [hdat]
      rw [List.getElem?_map, List.getElem?_map, List.getElem?_eq_getElem hj, List.getElem?_range (by omega)] at h2
      simp only [Option.map_some, Option.some.injEq, FE.data, raw, Prod.mk.injEq] at h2
      exact h2.2.1
    have HB : Hid (Below w.heap.size w W) := I.bel
    have hgD : g ≠ D := fun e => by
      have h := row_is_cells hrow.1 (r := D) hK rfl
      exact h (by rw [← e]; rfl)
    have hgb : g ≠ bo := fun e => hbx.not_row (by decide) hrow.1 (by rw [← e]; rfl)
    have hgw : w.heap.size ≤ g := (hrow.1.lt g rfl).1
    have HX : Hid (Boxed W bo 52 (.slice (some ⟨g, 0, none⟩) (P + 1) vc)) := hbx
    have HR : Hid (FrRow W w.heap.size (.slice (some ⟨g, 0, none⟩) (P + 1) vc) l) := hrow
    have HD : Hid (l.map FE.data = (List.range (P + 1)).map (raw m s zs)) := hdat
    have HLn : Hid (l.length = P + 1) := hlen
    have HK : Hid (W.heap[D]? = some (.deferred (some []))) := hK
    have hl0 : 0 < l.length := by omega
    have HF0 : Hid (W.cell? ⟨g, 1, none⟩ = some (.int .i64 0) ∧ W.frozen? ⟨g, 1, none⟩ = false) := by
      obtain ⟨g', e, _, h1, _, _, hf⟩ := hrow.at hlen.symm (i := 0) hl0
      injection e with e
      injection e with e
      subst e
      rw [hfl 0 hl0] at h1
      exact ⟨by simpa using h1, hf 1⟩
    have HP : Hid (pn m len = P + 1) := HNN.out
    have HFl : Hid (∀ j (hj : j < l.length), (l[j]).f = 0) := hfl
    have hPb : (P : Int) ≤ 1048577 := by omega
    clear hfl hdat hlen hrow hbx hK HN HE1 HE2 HOw HI0 HNN I
    have c10 := HX.out.cell
    dsimp only
    go_upto_if 42 with fail
    go_cut [] from 12 (fun V => Hid (∃ l1 : List FE, l1 = (if en = true then l.set 0 { l[0] with f := 1 } else l) ∧ Boxed V bo 52 (.slice (some ⟨g, 0, none⟩) (P + 1) vc) ∧ FrRow V w.heap.size (.slice (some ⟨g, 0, none⟩) (P + 1) vc) l1 ∧ Below w.heap.size w V ∧ V.heap[D]? = some (.deferred (some []))))
    case first =>
      cases en
      · go_wp2_with fail
        go_meet
        exact ⟨l, by simp, HX.out, HR.out, HB.out, HK.out⟩
      · have g0 := HF0.out.1
        have g1 := HF0.out.2
        have hor : bits .or .i64 0 1 = 1 := rfl
        have hPi : (0 : Int) < ((P + 1 : Nat) : Int) := by omega
        go_wp2_with fail
        go_meet
        have h1 := HR.out.flagAt HLn.out hl0 1
        rw [Nat.zero_mul, Nat.zero_add] at h1
        exact ⟨_, by simp, HX.out.kept h1.2 (fun e => hgb (by injection e with e; exact e.symm)), h1.1, HB.out.grown h1.2 HB.out.size (fun q e => by injection e with e; omega), (h1.2.block D (Array.getElem?_eq_some_iff.1 HK.out).1 (fun e => hgD (by injection e with e; exact e.symm))).trans HK.out⟩
    case rest =>
    obtain ⟨l1, hl1, hb1, hr1, hB1, hD1⟩ := hcut.out
    obtain ⟨W6, hW6⟩ : ∃ W6, wc = W6 := ⟨_, rfl⟩
    rw [hW6] at hb1 hr1 hB1 hD1 ⊢
    clear hcut hW6 c10 HX HR HB HK HF0
    have hlen1 : l1.length = P + 1 := by rw [hl1]; split <;> simp [HLn.out]
    have hP1 : P < l1.length := by omega
    obtain ⟨f1, hf1⟩ : ∃ f1, (l1[P]).f = f1 := ⟨_, rfl⟩
    have hf2 : f1 = if P = 0 ∧ en = true then 1 else 0 := by
      rw [← hf1]
      subst hl1
      cases en with
      | false => simp only [Bool.false_eq_true, if_false, and_false]; exact HFl.out P (by have := HLn.out; omega)
      | true =>
        simp only [if_true, and_true, List.getElem_set]
        by_cases h0 : P = 0
        · rw [if_pos h0.symm, if_pos h0]
        · rw [if_neg (Ne.symm h0), if_neg h0]
          exact HFl.out P (by have := HLn.out; omega)
    obtain ⟨x, hx⟩ : ∃ x, bits .or .i64 f1 4 = x := ⟨_, rfl⟩
    have hx2 : x = pf en P (P + 1) := by
      rw [← hx, hf2, pf, if_pos rfl]
      split <;> rfl
    have HE : Hid ((l1.set P { l1[P] with f := x }).map FE.data = (List.range (pn m len)).map (prt m s en zs)) := by
      show _ = _
      have h := flags_done m s en zs l P (by rw [hzl]; exact HP.out) HLn.out HD.out l1 hl1 hP1 x hx2
      rw [hzl] at h
      exact h
    have h2 := hr1.flagAt hlen1 hP1 x
    obtain ⟨g', e, _, h4, _, _, hf⟩ := hr1.at hlen1.symm (i := P) hP1
    injection e with e
    injection e with e
    subst e
    rw [hf1] at h4
    have hfz := hf (P * 4 + 1)
    have HR7 : Hid (FrRow (W6.setCell ⟨g, P * 4 + 1, none⟩ (.int .i64 x)) w.heap.size (.slice (some ⟨g, 0, none⟩) (P + 1) vc) (l1.set P { l1[P] with f := x })) := h2.1
    have HB7 : Hid (Below w.heap.size w (W6.setCell ⟨g, P * 4 + 1, none⟩ (.int .i64 x))) := hB1.grown h2.2 hB1.size (fun q e => by injection e with e; omega)
    have HD7 : Hid ((W6.setCell ⟨g, P * 4 + 1, none⟩ (.int .i64 x)).heap[D]? = some (.deferred (some []))) := (h2.2.block D (Array.getElem?_eq_some_iff.1 hD1).1 (fun e => hgD (by injection e with e; exact e.symm))).trans hD1
    have c7 : (W6.setCell ⟨g, P * 4 + 1, none⟩ (.int .i64 x)).cell? ⟨bo, 0, none⟩ = some (.slice (some ⟨g, 0, none⟩) (P + 1) vc) := (hb1.kept h2.2 (fun e => hgb (by injection e with e; exact e.symm))).cell
    have c10 := hb1.cell
    have hDw : w.heap.size ≤ D := by omega
    clear hl1 hb1 hr1 hB1 hD1 h2 hf hf1 hf2 hx2 HFl HD HLn hlen1
    have hPe : ((P + 1 : Nat) : Int) - 1 = (P : Int) := by omega
    go_wp2_with fail
    refine ⟨by simp, .inl ⟨_, _, rfl, run_takeDeferred HD7.out, ?_⟩⟩
    refine ⟨_, results_tmp rfl _ _ _, _, rfl, _, HR7.out.others (grownBy_putObj' _ D _) (fun r e => ?_), HE.out, HB7.out.grown (grownBy_putObj' _ D _) HB7.out.size (fun q e => by injection e with e; omega)⟩
    injection e with e
    subst e
    exact ⟨_, HD7.out, rfl⟩
  case stop =>
    rintro D c s W hD h
    exact h.elim

set_option maxRecDepth 10000 in
set_option maxHeartbeats 1600000 in
theorem implPart_no (s : Int) (en : Bool) (b off len cap : Nat) (zs : List Int) (most : Int) (w : World) (h : ¬ (1 ≤ s ∧ s ≤ 2147483647)) :
    Calls Tryz.prog 35 #[.int .i64 s, .bool en, .slice (some ⟨b, off, none⟩) len cap, .int .i64 most] w fun e w' => ∃ v l, e = .returned v ∧ FrRow w' w.heap.size v l ∧ l.map FE.data = partL s en zs most ∧ Below w.heap.size w w' := by
  have HP : Hid (partL s en zs most = []) := by show _ = _; rw [partL, if_neg h]
  have HN : Hid (¬ (1 ≤ s ∧ s ≤ 2147483647)) := h
  have HB : Hid (Below w.heap.size w ((w.alloc (.cells #[.int .i64 s] 3)).alloc (.cells #[] 55))) := ((Below.refl _ _).alloc (Nat.le_refl _) _).alloc (by simp) _
  have HR : Hid (FrRow ((w.alloc (.cells #[.int .i64 s] 3)).alloc (.cells #[] 55)) w.heap.size (.slice (some ⟨w.heap.size + 1, 0, none⟩) 0 0) []) := by
    have h := FrRow.nil (w.alloc (.cells #[.int .i64 s] 3))
    rw [World.size_alloc] at h
    exact h.low (by omega)
  clear h
  go_enter Tryz.func35, Tryz.ntmps35
  go_wp2_with (go_at_call 30; refine (blockOk_no s _ HN.out).mono ?_; rintro e w' ⟨rfl, rfl⟩)
  go_ret
  exact ⟨_, _, rfl, HR.out, HP.out.symm, HB.out⟩

theorem implPart_any (s : Int) (en : Bool) (b off len cap : Nat) (zs : List Int) (most : Int) (w : World) (hs : Seg w (some ⟨b, off, none⟩) len zs) (hcap : len ≤ cap) (hl : len ≤ 1048576) :
    Calls Tryz.prog 35 #[.int .i64 s, .bool en, .slice (some ⟨b, off, none⟩) len cap, .int .i64 most] w fun e w' => ∃ v l, e = .returned v ∧ FrRow w' w.heap.size v l ∧ l.map FE.data = partL s en zs most ∧ Below w.heap.size w w' := by
  by_cases h : 1 ≤ s ∧ s ≤ 2147483647
  · rw [partL, if_pos h, hs.1]
    exact implPart_yes s en b off len cap _ zs most w hs hcap hl h.1 h.2 rfl
  · exact implPart_no s en b off len cap zs most w h

end Go.Proofs.YtbaijmkghgnleaaGreatDoor
