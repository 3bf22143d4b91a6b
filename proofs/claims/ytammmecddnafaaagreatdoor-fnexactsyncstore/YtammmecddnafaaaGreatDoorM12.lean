/- What the program's fold makes of a record. How long the bytes of uploads come to be; no program in it. What records make by the program, one behind the other; no program in it. Rows of records that a call has made: their cells, their bytes. No statement of the program but its table of types. What the program's FoldRecs answers. Bytes as a text, wherever they stand. -/
import Derived.Test.YtammmecddnafaaaGreatDoorM11
import Derived.Test.YtammmecddnafaaaGreatDoorM11
import Derived.Test.YtammmecddnafaaaGreatDoorM11
import Derived.Test.YtammmecddnafaaaGreatDoorM11
import Derived.Laws.EntriesVeiled
import Derived.Shelf.Abstract
import Derived.Test.YtammmecddnafaaaGreatDoorM07
import Derived.Test.YtammmecddnafaaaGreatDoorM02
import Derived.Defers
import Derived.Recover
namespace Go.Proofs.YtammmecddnafaaaGreatDoor
open Go.RowKit
set_option linter.unusedVariables false

/-- A record that begins an upload. -/
theorem implBegin_any (fb base : Nat) (a : Option Addr) (n c : Nat) (l : List UE) (e q k : Int) (id : ByteArray) (rn : Int) (ra : Option Addr) (d ca : Nat) (w : World) (hf : BoxN w fb 117 [.slice a n c]) (h : UpRow w base (.slice a n c) l) (hn : n = l.length) (hl : n ≤ 1099511627776) (he : ErrN w) (hbase : base ≤ w.heap.size) (hfb : base ≤ fb) (hn1 : n ≤ 1048576) :
    Calls Tryz.prog 107 #[.pointer (some ⟨fb, 0, none⟩), .agg #[.int .i64 e, .int .i64 q, .int .i64 k, .string id, .int .i64 rn, .slice ra d ca]] w fun e w' => FoldAns w base fb (beginO (l.map UE.u) id rn) e w' := by
  by_cases hc : atU (l.map UE.u) id = none ∧ n < 10
  · refine (begin_yes fb base a n c l e q k id rn ra d ca w hf h hn hl he hbase hfb hc).mono ?_
    rintro ee w' ⟨⟨a', c', rfl, h1, h2⟩, h3⟩
    have hln := h2.1.1
    refine ⟨.inr ⟨a', n + 1, c', _, rfl, ?_, ?_, h1, h2⟩, h3⟩
    · rw [beginO, if_pos ⟨hc.1, by rw [List.length_map, ← hn]; exact hc.2⟩]
      simp [List.map_take, List.map_drop]
    · have := lessU_le id (l.map UE.u)
      rw [List.length_map] at this
      simp only [List.length_append, List.length_take, List.length_drop, List.length_cons, List.length_nil]
      omega
  · refine (begin_no fb base a n c l e q k id rn ra d ca w hf h hn hl he hc).mono ?_
    rintro ee w' ⟨h1, h2⟩
    refine ⟨.inl ⟨?_, h1⟩, h2.mono hbase⟩
    rw [beginO, if_neg (fun h => hc ⟨h.1, by rw [hn]; simpa using h.2⟩)]

/-- A record of no Kind makes nothing. -/
theorem oneU_kind {l : List U} {r : R} (h : ¬ (1 ≤ r.k ∧ r.k ≤ 4)) : oneU l r = none := by
  have h1 : r.k ≠ 1 := by omega
  have h2 : r.k ≠ 2 := by omega
  have h3 : r.k ≠ 3 := by omega
  have h4 : r.k ≠ 4 := by omega
  rw [oneU, if_neg h1]
  split
  · rfl
  · split
    · rfl
    · rw [if_neg h2, if_neg h3, if_neg h4]

set_option maxRecDepth 10000 in
set_option maxHeartbeats 1600000 in
theorem implTake_any (fb base : Nat) (a : Option Addr) (n c : Nat) (l : List UE) (e q k : Int) (id : ByteArray) (rn : Int) (ra : Option Addr) (d ca : Nat) (w : World) (hf : BoxN w fb 117 [.slice a n c]) (h : UpRow w base (.slice a n c) l) (hn : n = l.length) (hl : n ≤ 1099511627776) (he : ErrN w) (hbase : base ≤ w.heap.size) (hfb : base ≤ fb) (ys : List Int) (hs : Seg w ra d ys) (hd : d ≤ 1099511627776) (hfit : ∀ x ∈ l, UFit x.u) (hzl : ∀ x ∈ l, x.n ≤ 1099511627776) (hn1 : n ≤ 1048576) (hasc : Asc (l.map UE.u)) :
    Calls Tryz.prog 100 #[.pointer (some ⟨fb, 0, none⟩), .agg #[.int .i64 e, .int .i64 q, .int .i64 k, .string id, .int .i64 rn, .slice ra d ca]] w fun ee w' => FoldAns w base fb (oneU (l.map UE.u) ⟨e, q, k, id, rn, ys⟩) ee w' := by
  obtain ⟨w0, hw0⟩ : ∃ w0, (w.alloc (.cells #[.int .i64 e, .int .i64 q, .int .i64 k, .string id, .int .i64 rn, .slice ra d ca] 59)).alloc (.cells #[.nilFunc, .func (.func 107) #[] #[], .func (.func 108) #[] #[], .func (.func 109) #[] #[], .func (.func 110) #[] #[]] 131) = w0 := ⟨_, rfl⟩
  have HE : Hid ((w.alloc (.cells #[.int .i64 e, .int .i64 q, .int .i64 k, .string id, .int .i64 rn, .slice ra d ca] 59)).alloc (.cells #[.nilFunc, .func (.func 107) #[] #[], .func (.func 108) #[] #[], .func (.func 109) #[] #[], .func (.func 110) #[] #[]] 131) = w0) := hw0
  have HQ : Hid (BoxN w0 w.heap.size 59 [.int .i64 e, .int .i64 q, .int .i64 k, .string id, .int .i64 rn, .slice ra d ca]) := by show BoxN _ _ _ _; rw [← hw0]; exact (BoxN.new _ _ _).alloc _
  have HM : Hid (BoxN w0 (w.heap.size + 1) 131 [.nilFunc, .func (.func 107) #[] #[], .func (.func 108) #[] #[], .func (.func 109) #[] #[], .func (.func 110) #[] #[]]) := by
    show BoxN _ _ _ _
    rw [← hw0]
    have := BoxN.new (w.alloc (.cells #[.int .i64 e, .int .i64 q, .int .i64 k, .string id, .int .i64 rn, .slice ra d ca] 59)) 131 [.nilFunc, .func (.func 107) #[] #[], .func (.func 108) #[] #[], .func (.func 109) #[] #[], .func (.func 110) #[] #[]]
    rw [World.size_alloc] at this
    exact this
  have HB : Hid (Below w.heap.size w w0) := by show Below _ _ _; rw [← hw0]; exact ((Below.refl _ _).alloc (Nat.le_refl _) _).alloc (by simp) _
  have HX : Hid (∀ W, Below w0.heap.size w0 W → BoxN W fb 117 [.slice a n c] ∧ UpRow W base (.slice a n c) l ∧ ErrN W ∧ Below w.heap.size w W ∧ BoxN W w.heap.size 59 [.int .i64 e, .int .i64 q, .int .i64 k, .string id, .int .i64 rn, .slice ra d ca] ∧ BoxN W (w.heap.size + 1) 131 [.nilFunc, .func (.func 107) #[] #[], .func (.func 108) #[] #[], .func (.func 109) #[] #[], .func (.func 110) #[] #[]] ∧ Seg W ra d ys) := fun W hb => ⟨(hf.stays HB.out).stays hb, (h.stays HB.out).stays hb, (he.below HB.out).below hb, HB.out.trans (hb.mono HB.out.size), HQ.out.stays hb, HM.out.stays hb, (hs.below HB.out).below hb⟩
  have HN : Hid (n = l.length) := hn
  have HFi : Hid (∀ x ∈ l, UFit x.u) := hfit
  have HZl : Hid (∀ x ∈ l, x.n ≤ 1099511627776) := hzl
  have HA : Hid (Asc (l.map UE.u)) := hasc
  have hx0 := HX.out w0 (Below.refl _ _)
  obtain ⟨r0, r1, r2, r3, r4, r5⟩ := (show _ ∧ _ ∧ _ ∧ _ ∧ _ ∧ _ from ⟨hx0.2.2.2.2.1.cell 0 rfl, hx0.2.2.2.2.1.cell 1 rfl, hx0.2.2.2.2.1.cell 2 rfl, hx0.2.2.2.2.1.cell 3 rfl, hx0.2.2.2.2.1.cell 4 rfl, hx0.2.2.2.2.1.cell 5 rfl⟩)
  clear hw0 hf h hn he HQ HB HM hs hfit hzl hasc hx0
  go_enter Tryz.func100, Tryz.ntmps100
  go_upto_region 2 with fail
  rw [HE.out]
  clear HE
  go_wp2_with fail
  refine (implKind_any k _).mono ?_
  rintro _ w1 ⟨rfl, rfl⟩
  have HB1 : Hid (Below w1.heap.size w1 w1) := Below.refl _ _
  clear r0 r1 r2 r3 r4 r5
  by_cases hk : 1 ≤ k ∧ k ≤ 4
  case neg =>
    have HF : Hid (oneU (l.map UE.u) ⟨e, q, k, id, rn, ys⟩ = none) := oneU_kind hk
    rw [decide_eq_false hk]
    clear hk
    go_wp2_with fail
    refine (mustFit_no _ (HX.out _ HB1.out).2.2.1).mono ?_
    rintro _ x2 ⟨⟨t, v, rfl⟩, rfl⟩
    go_wp2_with fail
    exact ⟨rfl, .inl ⟨HF.out, t, v, rfl⟩, (HX.out _ HB1.out).2.2.2.1.mono hbase⟩
  case pos =>
    rw [decide_eq_true hk]
    go_wp2_with fail
    refine (mustFit_yes _).mono ?_
    rintro _ w2 ⟨rfl, rfl⟩
    go_upto_region 3 with fail
    have HBx : Hid (∀ P : Past w2, Below w2.heap.size w2 P.world) := fun P => P.below
    have y0 : ∀ P : Past w2, P.world.cell? ⟨w.heap.size, 0, none⟩ = some (.int .i64 e) := fun P => (HX.out _ (HBx.out P)).2.2.2.2.1.cell 0 rfl
    have y1 : ∀ P : Past w2, P.world.cell? ⟨w.heap.size, 1, none⟩ = some (.int .i64 q) := fun P => (HX.out _ (HBx.out P)).2.2.2.2.1.cell 1 rfl
    have y2 : ∀ P : Past w2, P.world.cell? ⟨w.heap.size, 2, none⟩ = some (.int .i64 k) := fun P => (HX.out _ (HBx.out P)).2.2.2.2.1.cell 2 rfl
    have y3 : ∀ P : Past w2, P.world.cell? ⟨w.heap.size, 3, none⟩ = some (.string id) := fun P => (HX.out _ (HBx.out P)).2.2.2.2.1.cell 3 rfl
    have y4 : ∀ P : Past w2, P.world.cell? ⟨w.heap.size, 4, none⟩ = some (.int .i64 rn) := fun P => (HX.out _ (HBx.out P)).2.2.2.2.1.cell 4 rfl
    have y5 : ∀ P : Past w2, P.world.cell? ⟨w.heap.size, 5, none⟩ = some (.slice ra d ca) := fun P => (HX.out _ (HBx.out P)).2.2.2.2.1.cell 5 rfl
    have m1 : ∀ P : Past w2, P.world.cell? ⟨w.heap.size + 1, 1, none⟩ = some (.func (.func 107) #[] #[]) := fun P => (HX.out _ (HBx.out P)).2.2.2.2.2.1.cell 1 rfl
    have m2 : ∀ P : Past w2, P.world.cell? ⟨w.heap.size + 1, 2, none⟩ = some (.func (.func 108) #[] #[]) := fun P => (HX.out _ (HBx.out P)).2.2.2.2.2.1.cell 2 rfl
    have m3 : ∀ P : Past w2, P.world.cell? ⟨w.heap.size + 1, 3, none⟩ = some (.func (.func 109) #[] #[]) := fun P => (HX.out _ (HBx.out P)).2.2.2.2.2.1.cell 3 rfl
    have m4 : ∀ P : Past w2, P.world.cell? ⟨w.heap.size + 1, 4, none⟩ = some (.func (.func 110) #[] #[]) := fun P => (HX.out _ (HBx.out P)).2.2.2.2.2.1.cell 4 rfl
    have hne := past_some w2
    have hk4 : k = 1 ∨ k = 2 ∨ k = 3 ∨ k = 4 := by omega
    rcases hk4 with rfl | rfl | rfl | rfl
    · have HO1 : Hid (beginO (l.map UE.u) id rn = oneU (l.map UE.u) ⟨e, q, 1, id, rn, ys⟩) := one1 HA.out
      have eg : ∀ (args : Array Value) (w : World), Sem.run Tryz.prog (callFunc 107 args) w = .ok (.enter 107 args) w := enters_of Tryz.func107 (by kernel_rfl) rfl
      refine wp_region_past_tail 6 (by kernel_rfl) (by kernel_rfl) (fun ops HO => ?_)
      simp only [List.take_succ_cons, List.take_zero, List.drop_succ_cons, List.drop_zero]
      iterate 6 (quiet_step ((first | fail)))
      refine wpQuiet_nil ?_
      rintro _ ⟨z, rfl⟩
      have HB2 : Hid (Below w2.heap.size w2 z.world) := HBx.out z
      obtain ⟨W2, hW2⟩ : ∃ W2, z.world = W2 := ⟨_, rfl⟩
      rw [hW2] at HB2 ⊢
      clear hW2 z hne y0 y1 y2 y3 y4 y5 m1 m2 m3 m4
      have HC : Hid (Calls Tryz.prog 107 #[.pointer (some ⟨fb, 0, none⟩), .agg #[.int .i64 e, .int .i64 q, .int .i64 1, .string id, .int .i64 rn, .slice ra d ca]] W2 fun e w' => FoldAns W2 base fb (beginO (l.map UE.u) id rn) e w') := by
        have hx := HX.out _ HB2.out
        exact implBegin_any fb base a n c l e q 1 id rn ra d ca W2 hx.1 hx.2.1 HN.out hl hx.2.2.1 (Nat.le_trans hbase hx.2.2.2.1.size) hfb hn1
      go_wp2_with fail
      refine HC.out.mono ?_
      rintro ee w4 ⟨hans, hb4⟩
      have HBf : Hid (Below base w w4) := ((HX.out _ HB2.out).2.2.2.1.mono hbase).trans hb4
      rw [HO1.out] at hans
      rcases hans with ⟨hno, t, v, rfl⟩ | ⟨a', n', c', l', rfl, hmap, hlen, hbx, hrow⟩
      · go_wp2_with fail
        exact ⟨rfl, .inl ⟨hno, t, v, rfl⟩, HBf.out⟩
      · have HR : Hid (FoldAns w base fb (oneU (l.map UE.u) ⟨e, q, 1, id, rn, ys⟩) (.returned (.tuple #[])) w4) := ⟨.inr ⟨a', n', c', l', rfl, hmap, hlen, hbx, hrow⟩, HBf.out⟩
        clear hmap hlen hbx hrow HC
        go_wp2_with fail
        go_end0
        exact HR.out
    · have HO1 : Hid (growO (l.map UE.u) id rn ys = oneU (l.map UE.u) ⟨e, q, 2, id, rn, ys⟩) := one2 HA.out
      have eg : ∀ (args : Array Value) (w : World), Sem.run Tryz.prog (callFunc 108 args) w = .ok (.enter 108 args) w := enters_of Tryz.func108 (by kernel_rfl) rfl
      refine wp_region_past_tail 6 (by kernel_rfl) (by kernel_rfl) (fun ops HO => ?_)
      simp only [List.take_succ_cons, List.take_zero, List.drop_succ_cons, List.drop_zero]
      iterate 6 (quiet_step ((first | fail)))
      refine wpQuiet_nil ?_
      rintro _ ⟨z, rfl⟩
      have HB2 : Hid (Below w2.heap.size w2 z.world) := HBx.out z
      obtain ⟨W2, hW2⟩ : ∃ W2, z.world = W2 := ⟨_, rfl⟩
      rw [hW2] at HB2 ⊢
      clear hW2 z hne y0 y1 y2 y3 y4 y5 m1 m2 m3 m4
      have HC : Hid (Calls Tryz.prog 108 #[.pointer (some ⟨fb, 0, none⟩), .agg #[.int .i64 e, .int .i64 q, .int .i64 2, .string id, .int .i64 rn, .slice ra d ca]] W2 fun e w' => FoldAns W2 base fb (growO (l.map UE.u) id rn ys) e w') := by
        have hx := HX.out _ HB2.out
        exact implGrow_any fb base a n c l e q 2 id rn ra d ca W2 hx.1 hx.2.1 HN.out hl hx.2.2.1 (Nat.le_trans hbase hx.2.2.2.1.size) hfb ys hx.2.2.2.2.2.2 hd HFi.out HZl.out
      go_wp2_with fail
      refine HC.out.mono ?_
      rintro ee w4 ⟨hans, hb4⟩
      have HBf : Hid (Below base w w4) := ((HX.out _ HB2.out).2.2.2.1.mono hbase).trans hb4
      rw [HO1.out] at hans
      rcases hans with ⟨hno, t, v, rfl⟩ | ⟨a', n', c', l', rfl, hmap, hlen, hbx, hrow⟩
      · go_wp2_with fail
        exact ⟨rfl, .inl ⟨hno, t, v, rfl⟩, HBf.out⟩
      · have HR : Hid (FoldAns w base fb (oneU (l.map UE.u) ⟨e, q, 2, id, rn, ys⟩) (.returned (.tuple #[])) w4) := ⟨.inr ⟨a', n', c', l', rfl, hmap, hlen, hbx, hrow⟩, HBf.out⟩
        clear hmap hlen hbx hrow HC
        go_wp2_with fail
        go_end0
        exact HR.out
    · have HO1 : Hid (doneO (l.map UE.u) id = oneU (l.map UE.u) ⟨e, q, 3, id, rn, ys⟩) := one3 HA.out
      have eg : ∀ (args : Array Value) (w : World), Sem.run Tryz.prog (callFunc 109 args) w = .ok (.enter 109 args) w := enters_of Tryz.func109 (by kernel_rfl) rfl
      refine wp_region_past_tail 6 (by kernel_rfl) (by kernel_rfl) (fun ops HO => ?_)
      simp only [List.take_succ_cons, List.take_zero, List.drop_succ_cons, List.drop_zero]
      iterate 6 (quiet_step ((first | fail)))
      refine wpQuiet_nil ?_
      rintro _ ⟨z, rfl⟩
      have HB2 : Hid (Below w2.heap.size w2 z.world) := HBx.out z
      obtain ⟨W2, hW2⟩ : ∃ W2, z.world = W2 := ⟨_, rfl⟩
      rw [hW2] at HB2 ⊢
      clear hW2 z hne y0 y1 y2 y3 y4 y5 m1 m2 m3 m4
      have HC : Hid (Calls Tryz.prog 109 #[.pointer (some ⟨fb, 0, none⟩), .agg #[.int .i64 e, .int .i64 q, .int .i64 3, .string id, .int .i64 rn, .slice ra d ca]] W2 fun e w' => FoldAns W2 base fb (doneO (l.map UE.u) id) e w') := by
        have hx := HX.out _ HB2.out
        exact implFinish_any fb base a n c l e q 3 id rn ra d ca W2 hx.1 hx.2.1 HN.out hl hx.2.2.1 (Nat.le_trans hbase hx.2.2.2.1.size) hfb HZl.out
      go_wp2_with fail
      refine HC.out.mono ?_
      rintro ee w4 ⟨hans, hb4⟩
      have HBf : Hid (Below base w w4) := ((HX.out _ HB2.out).2.2.2.1.mono hbase).trans hb4
      rw [HO1.out] at hans
      rcases hans with ⟨hno, t, v, rfl⟩ | ⟨a', n', c', l', rfl, hmap, hlen, hbx, hrow⟩
      · go_wp2_with fail
        exact ⟨rfl, .inl ⟨hno, t, v, rfl⟩, HBf.out⟩
      · have HR : Hid (FoldAns w base fb (oneU (l.map UE.u) ⟨e, q, 3, id, rn, ys⟩) (.returned (.tuple #[])) w4) := ⟨.inr ⟨a', n', c', l', rfl, hmap, hlen, hbx, hrow⟩, HBf.out⟩
        clear hmap hlen hbx hrow HC
        go_wp2_with fail
        go_end0
        exact HR.out
    · have HO1 : Hid (dropO (l.map UE.u) id = oneU (l.map UE.u) ⟨e, q, 4, id, rn, ys⟩) := one4 HA.out
      have eg : ∀ (args : Array Value) (w : World), Sem.run Tryz.prog (callFunc 110 args) w = .ok (.enter 110 args) w := enters_of Tryz.func110 (by kernel_rfl) rfl
      refine wp_region_past_tail 6 (by kernel_rfl) (by kernel_rfl) (fun ops HO => ?_)
      simp only [List.take_succ_cons, List.take_zero, List.drop_succ_cons, List.drop_zero]
      iterate 6 (quiet_step ((first | fail)))
      refine wpQuiet_nil ?_
      rintro _ ⟨z, rfl⟩
      have HB2 : Hid (Below w2.heap.size w2 z.world) := HBx.out z
      obtain ⟨W2, hW2⟩ : ∃ W2, z.world = W2 := ⟨_, rfl⟩
      rw [hW2] at HB2 ⊢
      clear hW2 z hne y0 y1 y2 y3 y4 y5 m1 m2 m3 m4
      have HC : Hid (Calls Tryz.prog 110 #[.pointer (some ⟨fb, 0, none⟩), .agg #[.int .i64 e, .int .i64 q, .int .i64 4, .string id, .int .i64 rn, .slice ra d ca]] W2 fun e w' => FoldAns W2 base fb (dropO (l.map UE.u) id) e w') := by
        have hx := HX.out _ HB2.out
        exact implDrop_any fb base a n c l e q 4 id rn ra d ca W2 hx.1 hx.2.1 HN.out hl hx.2.2.1 (Nat.le_trans hbase hx.2.2.2.1.size) hfb hn1
      go_wp2_with fail
      refine HC.out.mono ?_
      rintro ee w4 ⟨hans, hb4⟩
      have HBf : Hid (Below base w w4) := ((HX.out _ HB2.out).2.2.2.1.mono hbase).trans hb4
      rw [HO1.out] at hans
      rcases hans with ⟨hno, t, v, rfl⟩ | ⟨a', n', c', l', rfl, hmap, hlen, hbx, hrow⟩
      · go_wp2_with fail
        exact ⟨rfl, .inl ⟨hno, t, v, rfl⟩, HBf.out⟩
      · have HR : Hid (FoldAns w base fb (oneU (l.map UE.u) ⟨e, q, 4, id, rn, ys⟩) (.returned (.tuple #[])) w4) := ⟨.inr ⟨a', n', c', l', rfl, hmap, hlen, hbx, hrow⟩, HBf.out⟩
        clear hmap hlen hbx hrow HC
        go_wp2_with fail
        go_end0
        exact HR.out

end Go.Proofs.YtammmecddnafaaaGreatDoor

namespace Go.Proofs.YtammmecddnafaaaGreatDoor
open Go.RowKit
set_option linter.unusedVariables false

theorem oneU_zs {l l' : List U} {r : R} {m : Nat} (h : oneU l r = some l') (hl : ∀ u ∈ l, u.zs.length ≤ m) : ∀ u ∈ l', u.zs.length ≤ m + r.zs.length := by
  rw [oneU] at h
  split at h
  · split at h
    · injection h with h
      subst h
      intro u hu
      rcases List.mem_append.1 hu with h | h
      · have := hl u (List.mem_of_mem_take h); omega
      · rcases List.mem_cons.1 h with rfl | h
        · exact Nat.zero_le _
        · have := hl u (List.mem_of_mem_drop h); omega
    · cases h
  · split at h
    · cases h
    · split at h
      · cases h
      · rename_i k _ x hx
        have hxl := hl x (List.mem_of_getElem? hx)
        split at h
        · split at h
          · cases h
          · injection h with h
            subst h
            intro u hu
            rcases List.mem_or_eq_of_mem_set hu with h | rfl
            · have := hl u h; omega
            · simp only [List.length_append]; omega
        · split at h
          · split at h
            · cases h
            · injection h with h
              subst h
              intro u hu
              rcases List.mem_or_eq_of_mem_set hu with h | rfl
              · have := hl u h; omega
              · dsimp only; omega
          · split at h
            · injection h with h
              subst h
              intro u hu
              have := hl u (List.mem_of_mem_eraseIdx hu)
              omega
            · cases h

end Go.Proofs.YtammmecddnafaaaGreatDoor

namespace Go.Proofs.YtammmecddnafaaaGreatDoor
open Go.RowKit
set_option linter.unusedVariables false

/-- What records make by the program. -/
def foldP (rs : List R) : Option (List U) := rs.foldlM oneU []

theorem foldP_step (rs : List R) (k : Nat) (r : R) (h : rs[k]? = some r) : foldP (rs.take (k + 1)) = (foldP (rs.take k)).bind fun l => oneU l r := by
  rw [List.take_add_one, h, foldP, foldP, List.foldlM_append]
  simp [List.foldlM]

theorem foldP_stop (rs : List R) (k : Nat) (h : foldP (rs.take k) = none) : foldP rs = none := by
  have e : rs = rs.take k ++ rs.drop k := (List.take_append_drop k rs).symm
  rw [e, foldP, List.foldlM_append]
  rw [foldP] at h
  rw [h]
  rfl

/-- What fits fits behind a record too. -/
theorem oneU_fit {l l' : List U} {r : R} (hn : -9223372036854775808 ≤ r.n ∧ r.n ≤ 9223372036854775807) (h : oneU l r = some l') (hl : ∀ u ∈ l, UFit u) : ∀ u ∈ l', UFit u := by
  rw [oneU] at h
  split at h
  · split at h
    · injection h with h
      subst h
      intro u hu
      rcases List.mem_append.1 hu with h | h
      · exact hl u (List.mem_of_mem_take h)
      · rcases List.mem_cons.1 h with rfl | h
        · exact ⟨hn, .inr rfl⟩
        · exact hl u (List.mem_of_mem_drop h)
    · cases h
  · split at h
    · cases h
    · split at h
      · cases h
      · rename_i k _ x hx
        have hxl := hl x (List.mem_of_getElem? hx)
        split at h
        · split at h
          · cases h
          · rename_i hc
            injection h with h
            subst h
            intro u hu
            simp only [not_or] at hc
            rcases List.mem_or_eq_of_mem_set hu with h | rfl
            · exact hl u h
            · refine ⟨hxl.1, .inl ?_⟩
              simp only [List.length_append]
              have h1 : r.n = (x.zs.length : Int) := by omega
              omega
        · split at h
          · split at h
            · cases h
            · injection h with h
              subst h
              intro u hu
              rcases List.mem_or_eq_of_mem_set hu with h | rfl
              · exact hl u h
              · exact hxl
          · split at h
            · injection h with h
              subst h
              intro u hu
              exact hl u (List.mem_of_mem_eraseIdx hu)
            · cases h

theorem foldP_ok (rs : List R) : foldP rs = foldU rs := rfl

end Go.Proofs.YtammmecddnafaaaGreatDoor

namespace Go.Proofs.YtammmecddnafaaaGreatDoor
open Go.RowKit
set_option linter.unusedVariables false

/-- A record of a row: what it says, where its bytes lie. -/
structure RE where
  r : R
  a : Option Addr
  n : Nat
  c : Nat

def RE.cells (e : RE) : List Value := [.int .i64 e.r.e, .int .i64 e.r.q, .int .i64 e.r.k, .string e.r.id, .int .i64 e.r.n, .slice e.a e.n e.c]

def reCells (l : List RE) : List Value := l.flatMap RE.cells

theorem reCells_cons (e : RE) (l : List RE) : reCells (e :: l) = .int .i64 e.r.e :: .int .i64 e.r.q :: .int .i64 e.r.k :: .string e.r.id :: .int .i64 e.r.n :: .slice e.a e.n e.c :: reCells l := rfl

theorem reCells_append (l m : List RE) : reCells (l ++ m) = reCells l ++ reCells m := by simp [reCells]

theorem reCells_len (l : List RE) : (reCells l).length = l.length * 6 := by
  induction l with
  | nil => rfl
  | cons e l ih => rw [reCells_cons]; simp only [List.length_cons, ih]; omega

theorem reCells_at (l : List RE) : ∀ i (h : i < l.length), (reCells l)[i * 6]? = some (.int .i64 (l[i]).r.e) ∧ (reCells l)[i * 6 + 1]? = some (.int .i64 (l[i]).r.q) ∧ (reCells l)[i * 6 + 2]? = some (.int .i64 (l[i]).r.k) ∧ (reCells l)[i * 6 + 3]? = some (.string (l[i]).r.id) ∧ (reCells l)[i * 6 + 4]? = some (.int .i64 (l[i]).r.n) ∧ (reCells l)[i * 6 + 5]? = some (.slice (l[i]).a (l[i]).n (l[i]).c) := by
  induction l with
  | nil => intro i h; simp at h
  | cons e l ih =>
    intro i h
    cases i with
    | zero => rw [reCells_cons]; simp
    | succ i =>
      have h' : i < l.length := by simpa using h
      obtain ⟨h0, h1, h2, h3, h4, h5⟩ := ih i h'
      rw [reCells_cons, show (i + 1) * 6 = i * 6 + 1 + 1 + 1 + 1 + 1 + 1 by omega]
      refine ⟨?_, ?_, ?_, ?_, ?_, ?_⟩
      · simpa using h0
      · simpa using h1
      · simpa using h2
      · simpa using h3
      · simpa using h4
      · simpa using h5

theorem reCells_one (l : List RE) : ∀ u ∈ reCells l, u.oneCell' = true := by
  intro u hu
  simp only [reCells, List.mem_flatMap, RE.cells] at hu
  obtain ⟨e, _, hf⟩ := hu
  simp at hf
  rcases hf with rfl | rfl | rfl | rfl | rfl | rfl <;> rfl

/-- The first five cells of a record in its row are written over. -/
theorem reCells_set (l : List RE) (e : RE) (m : List RE) (x y z : Int) (t : ByteArray) (u : Int) :
    (((((reCells (l ++ e :: m)).set (l.length * 6) (.int .i64 x)).set (l.length * 6 + 1) (.int .i64 y)).set (l.length * 6 + 2) (.int .i64 z)).set (l.length * 6 + 3) (.string t)).set (l.length * 6 + 4) (.int .i64 u) = reCells (l ++ { e with r := ⟨x, y, z, t, u, e.r.zs⟩ } :: m) := by
  have hl := reCells_len l
  rw [reCells_append, reCells_append, reCells_cons, reCells_cons]
  rw [List.set_append_right _ _ (by omega), hl, Nat.sub_self, List.set_cons_zero]
  rw [List.set_append_right _ _ (by omega), hl, show l.length * 6 + 1 - l.length * 6 = 1 by omega]
  rw [List.set_append_right _ _ (by omega), hl, show l.length * 6 + 2 - l.length * 6 = 2 by omega]
  rw [List.set_append_right _ _ (by omega), hl, show l.length * 6 + 3 - l.length * 6 = 3 by omega]
  rw [List.set_append_right _ _ (by omega), hl, show l.length * 6 + 4 - l.length * 6 = 4 by omega]
  rfl

/-- Two bodies do not lie in one block. -/
def rapart (e e' : RE) : Prop := ∀ q, e.a.map (·.block) = some q → e'.a.map (·.block) ≠ some q

/-- A slice value that owns these frames, and each of them its body, no two in one block. -/
def RcRow (W : World) (base : Nat) (v : Value) (l : List RE) : Prop :=
  W.ownsRow base 59 6 v l.length (reCells l) ∧ (∀ e ∈ l, Owns W base e.a e.n e.c e.r.zs) ∧ l.Pairwise rapart

theorem RcRow.stays {W W' : World} {base : Nat} {v : Value} {l : List RE} (h : RcRow W base v l) (hb : Below W.heap.size W W') : RcRow W' base v l :=
  ⟨own_below h.1 hb, fun e he => (h.2.1 e he).below hb, h.2.2⟩

theorem RcRow.low {W : World} {base b' : Nat} {v : Value} {l : List RE} (h : RcRow W base v l) (hb : b' ≤ base) : RcRow W b' v l :=
  ⟨own_low h.1 hb, fun e he => (h.2.1 e he).low hb, h.2.2⟩

theorem RcRow.shape {W : World} {base : Nat} {v : Value} {l : List RE} (h : RcRow W base v l) : ∃ a c, v = .slice a l.length c := by
  rcases h.1.2 with ⟨rfl, h0⟩ | ⟨g, cap, cur, rfl, _⟩
  · rw [h0]; exact ⟨_, _, rfl⟩
  · exact ⟨_, _, rfl⟩

theorem ownBlock_sR (a : Option Addr) (n cap : Nat) : (Value.slice a n cap).ownBlock = a.map (·.block) := by cases a <;> rfl

/-- The row's block is no body's. -/
theorem RcRow.rowApart {W : World} {base b2 : Nat} {v : Value} {l : List RE} (h : RcRow W base v l) {a : Option Addr} {n c : Nat} {zs : List Int} (ho : Owns W b2 a n c zs) : ∀ q, v.ownBlock = some q → a.map (·.block) ≠ some q := by
  intro q hq
  rcases h.1.2 with ⟨rfl, _⟩ | ⟨g, cap, cur, rfl, _, hg, _⟩
  · cases hq
  · obtain rfl : g = q := by simpa [Value.ownBlock] using hq
    exact ho.other hg (by decide)

theorem RcRow.grown {W W' : World} {base : Nat} {v : Value} {l : List RE} {r : Option Nat} (h : RcRow W base v l) (hg : W.grownBy W' r) (hv : ∀ q, r = some q → v.ownBlock ≠ some q) (hr : ∀ e ∈ l, ∀ q, r = some q → e.a.map (·.block) ≠ some q) : RcRow W' base v l := by
  refine ⟨h.1.kept hg ?_, fun e he => (h.2.1 e he).grown hg (hr e he), h.2.2⟩
  cases e : v.ownBlock with
  | none => exact .inl rfl
  | some k => exact .inr (fun h => hv k h.symm e)

/-- What lies from a bound on is not touched by what lies below it. -/
theorem RcRow.lts {W : World} {base : Nat} {v : Value} {l : List RE} (h : RcRow W base v l) : (∀ q, v.ownBlock = some q → base ≤ q ∧ q < W.heap.size) ∧ ∀ e ∈ l, ∀ q, e.a.map (·.block) = some q → base ≤ q ∧ q < W.heap.size :=
  ⟨h.1.lt, fun e he q hq => (h.2.1 e he).lt q hq⟩

/-- The cells of the record at an index. -/
theorem RcRow.at {W : World} {base n c : Nat} {a : Option Addr} {l : List RE} (h : RcRow W base (.slice a n c) l) (hn : n = l.length) {i : Nat} (hi : i < l.length) :
    ∃ g, a = some ⟨g, 0, none⟩ ∧ W.cell? ⟨g, i * 6, none⟩ = some (.int .i64 (l[i]).r.e) ∧ W.cell? ⟨g, i * 6 + 1, none⟩ = some (.int .i64 (l[i]).r.q) ∧ W.cell? ⟨g, i * 6 + 2, none⟩ = some (.int .i64 (l[i]).r.k) ∧ W.cell? ⟨g, i * 6 + 3, none⟩ = some (.string (l[i]).r.id) ∧ W.cell? ⟨g, i * 6 + 4, none⟩ = some (.int .i64 (l[i]).r.n) ∧ W.cell? ⟨g, i * 6 + 5, none⟩ = some (.slice (l[i]).a (l[i]).n (l[i]).c) ∧ ∀ j, W.frozen? ⟨g, j, none⟩ = false := by
  rcases h.1.2 with ⟨_, h0⟩ | ⟨g, cap, cur, he, _⟩
  · omega
  · injection he with e1 e2 e3
    subst e1
    have hl := reCells_len l
    obtain ⟨h0, h1, h2, h3, h4, h5⟩ := reCells_at l i hi
    have ho := h.1
    rw [hn] at ho
    refine ⟨g, rfl, ?_, ?_, ?_, ?_, ?_, ?_, fun j => ho.frozenAt j⟩
    · rw [ho.cellAt _ (by omega)]; exact h0
    · rw [ho.cellAt _ (by omega)]; exact h1
    · rw [ho.cellAt _ (by omega)]; exact h2
    · rw [ho.cellAt _ (by omega)]; exact h3
    · rw [ho.cellAt _ (by omega)]; exact h4
    · rw [ho.cellAt _ (by omega)]; exact h5

theorem rpair_same (M D : List RE) (e e' : RE) (ha : e'.a = e.a) (h : (M ++ e :: D).Pairwise rapart) : (M ++ e' :: D).Pairwise rapart := by
  rw [List.pairwise_append, List.pairwise_cons] at h ⊢
  refine ⟨h.1, ⟨fun y hy q hq => h.2.1.1 y hy q (by rw [← ha]; exact hq), h.2.1.2⟩, fun x hx y hy => ?_⟩
  rcases List.mem_cons.1 hy with rfl | hy
  · intro q hq
    rw [ha]
    exact h.2.2 x hx e (List.mem_cons_self ..) q hq
  · exact h.2.2 x hx y (List.mem_cons_of_mem _ hy)

theorem grow_trans {w w1 w2 : World} {row : Option Nat} (h : w.grownBy w1 row) (k : w1.grownBy w2 row) : w.grownBy w2 row :=
  ⟨k.os.trans h.os, k.tape.trans h.tape, k.output.trans h.output, Nat.le_trans h.size k.size, fun i hi hne => (k.block i (Nat.lt_of_lt_of_le hi h.size) hne).trans (h.block i hi hne)⟩

/-- A record's first five cells are written over in its row. -/
theorem RcRow.numbers {W : World} {base g n c : Nat} {M D : List RE} {e : RE} (h : RcRow W base (.slice (some ⟨g, 0, none⟩) n c) (M ++ e :: D)) (hn : (M ++ e :: D).length = n) (x y z : Int) (t : ByteArray) (u : Int) :
    RcRow (((((W.setCell ⟨g, M.length * 6, none⟩ (.int .i64 x)).setCell ⟨g, M.length * 6 + 1, none⟩ (.int .i64 y)).setCell ⟨g, M.length * 6 + 2, none⟩ (.int .i64 z)).setCell ⟨g, M.length * 6 + 3, none⟩ (.string t)).setCell ⟨g, M.length * 6 + 4, none⟩ (.int .i64 u)) base (.slice (some ⟨g, 0, none⟩) n c) (M ++ { e with r := ⟨x, y, z, t, u, e.r.zs⟩ } :: D) ∧
      W.grownBy (((((W.setCell ⟨g, M.length * 6, none⟩ (.int .i64 x)).setCell ⟨g, M.length * 6 + 1, none⟩ (.int .i64 y)).setCell ⟨g, M.length * 6 + 2, none⟩ (.int .i64 z)).setCell ⟨g, M.length * 6 + 3, none⟩ (.string t)).setCell ⟨g, M.length * 6 + 4, none⟩ (.int .i64 u)) (some g) := by
  have ho := h.1
  rw [hn] at ho
  have h1 := ho.stored (M.length * 6) (.int .i64 x)
  have h2 := h1.1.stored (M.length * 6 + 1) (.int .i64 y)
  have h3 := h2.1.stored (M.length * 6 + 2) (.int .i64 z)
  have h4 := h3.1.stored (M.length * 6 + 3) (.string t)
  have h5 := h4.1.stored (M.length * 6 + 4) (.int .i64 u)
  have hg : W.grownBy (((((W.setCell ⟨g, M.length * 6, none⟩ (.int .i64 x)).setCell ⟨g, M.length * 6 + 1, none⟩ (.int .i64 y)).setCell ⟨g, M.length * 6 + 2, none⟩ (.int .i64 z)).setCell ⟨g, M.length * 6 + 3, none⟩ (.string t)).setCell ⟨g, M.length * 6 + 4, none⟩ (.int .i64 u)) (some g) := by
    have a1 : World.grownBy _ _ (some g) := h1.2
    have a2 : World.grownBy _ _ (some g) := h2.2
    have a3 : World.grownBy _ _ (some g) := h3.2
    have a4 : World.grownBy _ _ (some g) := h4.2
    have a5 : World.grownBy _ _ (some g) := h5.2
    exact grow_trans (grow_trans (grow_trans (grow_trans a1 a2) a3) a4) a5
  refine ⟨⟨?_, ?_, rpair_same M D e _ rfl h.2.2⟩, hg⟩
  · have h6 := h5.1
    rw [reCells_set] at h6
    rw [show (M ++ { e with r := ⟨x, y, z, t, u, e.r.zs⟩ } :: D).length = n by rw [← hn]; simp]
    exact h6
  · intro e' he
    have key : ∀ v ∈ M ++ e :: D, Owns (((((W.setCell ⟨g, M.length * 6, none⟩ (.int .i64 x)).setCell ⟨g, M.length * 6 + 1, none⟩ (.int .i64 y)).setCell ⟨g, M.length * 6 + 2, none⟩ (.int .i64 z)).setCell ⟨g, M.length * 6 + 3, none⟩ (.string t)).setCell ⟨g, M.length * 6 + 4, none⟩ (.int .i64 u)) base v.a v.n v.c v.r.zs := fun v hv => (h.2.1 v hv).grown hg (fun q hq => h.rowApart (h.2.1 v hv) q (by injection hq with hq; subst hq; rfl))
    rcases List.mem_append.1 he with he | he
    · exact key e' (List.mem_append_left _ he)
    · rcases List.mem_cons.1 he with rfl | he
      · exact key e (List.mem_append_right _ (List.mem_cons_self ..))
      · exact key e' (List.mem_append_right _ (List.mem_cons_of_mem _ he))

/-- A record's bytes are written over. -/
theorem RcRow.bodied {W W' : World} {base : Nat} {v : Value} {M D : List RE} {e : RE} (h : RcRow W base v (M ++ e :: D)) (zs : List Int) (ho : Owns W' base e.a e.n e.c zs) (hg : W.grownBy W' (e.a.map (·.block))) : RcRow W' base v (M ++ { e with r := { e.r with zs := zs } } :: D) := by
  have hp := h.2.2
  rw [List.pairwise_append, List.pairwise_cons] at hp
  have hrow := h.rowApart (h.2.1 e (List.mem_append_right _ (List.mem_cons_self ..)))
  refine ⟨?_, ?_, rpair_same M D e _ rfl h.2.2⟩
  · have h1 : W'.ownsRow base 59 6 v (M ++ e :: D).length (reCells (M ++ e :: D)) := by
      refine h.1.kept hg ?_
      cases hv : v.ownBlock with
      | none => exact .inl rfl
      | some q => exact .inr (fun hq => hrow q hv hq.symm)
    have e1 : reCells (M ++ { e with r := { e.r with zs := zs } } :: D) = reCells (M ++ e :: D) := by rw [reCells_append, reCells_append]; rfl
    rw [e1, show (M ++ { e with r := { e.r with zs := zs } } :: D).length = (M ++ e :: D).length by simp]
    exact h1
  · intro u hu
    rcases List.mem_append.1 hu with hu | hu
    · refine (h.2.1 u (List.mem_append_left _ hu)).grown hg (fun q hq hq2 => ?_)
      exact hp.2.2 u hu e (List.mem_cons_self ..) q hq2 hq
    · rcases List.mem_cons.1 hu with rfl | hu
      · exact ho
      · exact (h.2.1 u (List.mem_append_right _ (List.mem_cons_of_mem _ hu))).grown hg (fun q hq => hp.2.1.1 u hu q hq)

/-- What lies below a bound stays where nothing below it is written. -/
theorem RcRow.under {W W' : World} {base B : Nat} {v : Value} {l : List RE} (h : RcRow W base v l) (hb : Below B W W') (h1 : ∀ q, v.ownBlock = some q → q < B) (h2 : ∀ e ∈ l, ∀ q, e.a.map (·.block) = some q → q < B) : RcRow W' base v l := by
  have key : ∀ {e : TypeId} {size n : Nat} {v : Value} {xs : List Value}, W.ownsRow base e size v n xs → (∀ q, v.ownBlock = some q → q < B) → W'.ownsRow base e size v n xs := by
    intro e size n v xs ho hq
    refine ⟨ho.1, ?_⟩
    rcases ho.2 with h0 | ⟨g, cap, cur, rfl, hg, hh, r⟩
    · exact .inl h0
    · exact .inr ⟨g, cap, cur, rfl, hg, (hb.block g (hq g rfl)).trans hh, r⟩
  exact ⟨key h.1 h1, fun e he => ⟨key (h.2.1 e he).1 (fun q hq => h2 e he q (by rw [ownBlock_sR] at hq; exact hq)), (h.2.1 e he).2⟩, h.2.2⟩

theorem RcRow.nil (W : World) : RcRow (W.alloc (.cells #[] 59)) W.heap.size (.slice (some ⟨W.heap.size, 0, none⟩) 0 0) [] :=
  ⟨World.ownsRow_lit W #[] 0 (Nat.le_refl _) (Nat.zero_le _) rfl, by simp, List.Pairwise.nil⟩

end Go.Proofs.YtammmecddnafaaaGreatDoor

namespace Go.Proofs.YtammmecddnafaaaGreatDoor
open Go.RowKit
set_option linter.unusedVariables false

/-- The deferred function, behind a panic: it is caught, nothing and false is answered. -/
theorem catch_pan (ub ob : Nat) (x y : Value) (u : TypeId) (pv : Value) (older : List PanicEntry) (w : World) (hu0 : w.cell? ⟨ub, 0, none⟩ = some x) (hu1 : w.frozen? ⟨ub, 0, none⟩ = false) (ho0 : w.cell? ⟨ob, 0, none⟩ = some y) (ho1 : w.frozen? ⟨ob, 0, none⟩ = false) (hne : ub ≠ ob) :
    CallsD Tryz.prog 99 #[.pointer (some ⟨ub, 0, none⟩), .pointer (some ⟨ob, 0, none⟩)] (.panicking ({ v := .iface u pv, recovered := false } :: older)) w fun e u' w' =>
      e = .returned (.tuple #[]) ∧ u' = .panicking ({ v := .iface u pv, recovered := true } :: older) ∧ w' = (w.setCell ⟨ub, 0, none⟩ (.slice none 0 0)).setCell ⟨ob, 0, none⟩ (.bool false) := by
  refine callsD_of_wpS Tryz.func99 rfl fun c₀ cs hu => ?_
  apply wpS_seq
  apply wpS_region
  simp [wpOpsS, go_sem, recoverD, hu, Tryz.ntmps99, Exit.thenS]
  refine wpS_cond (t := true) (by simp [Act.eval, Array.replicate]) ?_
  simp only [if_true]
  apply wpS_region
  simp [wpOpsS, go_sem, hu0, hu1, ho0, ho1, bodyPostS, results, Tryz.results99]

/-- .. where nothing panics. -/
theorem catch_idle (ub ob : Nat) (w : World) :
    CallsD Tryz.prog 99 #[.pointer (some ⟨ub, 0, none⟩), .pointer (some ⟨ob, 0, none⟩)] .returning w fun e u' w' => e = .returned (.tuple #[]) ∧ u' = .returning ∧ w' = w := by
  refine callsD_of_wpS Tryz.func99 rfl fun c₀ cs hu => ?_
  apply wpS_seq
  apply wpS_region
  simp [wpOpsS, go_sem, recoverD, hu, Tryz.ntmps99, Exit.thenS]
  refine wpS_cond (t := false) (by simp [Act.eval, Array.replicate]) ?_
  simp only [Bool.false_eq_true, if_false]
  refine wpS_of_wp (wp_skip ?_)
  cases c₀
  simp_all [bodyPostS, results, Tryz.results99]

set_option maxRecDepth 10000 in
set_option maxHeartbeats 1600000 in
theorem implFold_any (a : Option Addr) (n c lo : Nat) (rs : List RE) (B : Nat) (w : World) (h : RcRow w lo (.slice a n c) rs) (hn : n = rs.length) (hl : n ≤ 1099511627776) (hB : ∀ e ∈ rs, e.n ≤ B) (hnB : n * B ≤ 1099511627776) (hB2 : B ≤ 1099511627776) (hi : ∀ e ∈ rs, -9223372036854775808 ≤ e.r.n ∧ e.r.n ≤ 9223372036854775807) (he : ErrN w) :
    Calls Tryz.prog 70 #[.slice a n c] w fun e w' => (∃ x l', e = .returned (.tuple #[x, .bool (foldP (rs.map RE.r)).isSome]) ∧ UpRow w' w.heap.size x l' ∧ l'.map UE.u = (foldP (rs.map RE.r)).getD [] ∧ l'.length ≤ 10) ∧ Below w.heap.size w w' := by
  have hmf : ∀ (fn : Fn) (first cap : Array Value) (w : World), (Instr.makeFunc fn first cap).run Tryz.prog w = .ok (.func fn first cap) w := fun _ _ _ _ => rfl
  obtain ⟨w0, hw0⟩ : ∃ w0, (((w.alloc (.cells #[.slice none 0 0] 30)).alloc (.cells #[.bool false] 4)).alloc (.cells #[.slice none 0 0] 117)) = w0 := ⟨_, rfl⟩
  have HE : Hid ((((w.alloc (.cells #[.slice none 0 0] 30)).alloc (.cells #[.bool false] 4)).alloc (.cells #[.slice none 0 0] 117)) = w0) := hw0
  have HU : Hid (BoxN w0 w.heap.size 30 [.slice none 0 0]) := by show BoxN _ _ _ _; rw [← hw0]; exact ((BoxN.new _ _ _).alloc _).alloc _
  have HO : Hid (BoxN w0 (w.heap.size + 1) 4 [.bool false]) := by
    show BoxN _ _ _ _
    rw [← hw0]
    have := (BoxN.new (w.alloc (.cells #[.slice none 0 0] 30)) 4 [.bool false]).alloc (.cells #[.slice none 0 0] 117)
    rw [World.size_alloc] at this
    exact this
  have HF0 : Hid (BoxN w0 (w.heap.size + 1 + 1) 117 [.slice none 0 0]) := by
    show BoxN _ _ _ _
    rw [← hw0]
    have := BoxN.new ((w.alloc (.cells #[.slice none 0 0] 30)).alloc (.cells #[.bool false] 4)) 117 [.slice none 0 0]
    rw [World.size_alloc, World.size_alloc] at this
    exact this
  have HBw : Hid (Below w.heap.size w w0) := by show Below _ _ _; rw [← hw0]; exact (((Below.refl _ _).alloc (Nat.le_refl _) _).alloc (by simp) _).alloc (by simp; omega) _
  obtain ⟨fb, hfb⟩ : ∃ fb, w.heap.size + 1 + 1 = fb := ⟨_, rfl⟩
  have hfb1 : w.heap.size + 1 < fb := by omega
  have HfE : Hid (w.heap.size + 1 + 1 = fb) := hfb
  rw [hfb] at HF0
  have hfl : fb < w0.heap.size := HF0.out.lt
  have HX : Hid (∀ W, Below fb w0 W → RcRow W lo (.slice a n c) rs ∧ ErrN W ∧ Below w.heap.size w W ∧ BoxN W w.heap.size 30 [.slice none 0 0] ∧ BoxN W (w.heap.size + 1) 4 [.bool false]) := fun W hb => by
    have hb1 : Below w.heap.size w W := HBw.out.trans (hb.mono (by omega))
    exact ⟨h.stays hb1, he.below hb1, hb1, (hb.block _ (by omega)).trans HU.out, (hb.block _ (by omega)).trans HO.out⟩
  have HN : Hid (n = rs.length) := hn
  have HBs : Hid (∀ e ∈ rs, e.n ≤ B) := hB
  have HI : Hid (∀ e ∈ rs, -9223372036854775808 ≤ e.r.n ∧ e.r.n ≤ 9223372036854775807) := hi
  have HR0 : Hid (UpRow w0 fb (.slice none 0 0) []) := ⟨⟨rfl, .inl ⟨rfl, rfl⟩⟩, by simp, List.Pairwise.nil⟩
  clear hw0 h hn hB hi he HU HO hfb
  go_enter_defers Tryz.func70, Tryz.ntmps70
  go_wp2_with fail
  rw [HE.out]
  rw [HfE.out]
  clear HE
  go_loopw [11] (fun i wr => ∃ (k : Nat) (va : Option Addr) (vn vc : Nat) (l : List UE), k ≤ n ∧ i = .int .i64 (k : Int) ∧ vn = l.length ∧ l.length ≤ 10 ∧ Hid (BoxN wr fb 117 [.slice va vn vc]) ∧ Hid (UpRow wr fb (.slice va vn vc) l) ∧ Hid (foldP ((rs.map RE.r).take k) = some (l.map UE.u)) ∧ Hid (∀ u ∈ l.map UE.u, u.zs.length ≤ k * B) ∧ Hid (∀ x ∈ l.map UE.u, UFit x) ∧ Hid (Asc (l.map UE.u)) ∧ Hid (Below fb w0 wr)) (fun i _ => n - (intOf i).toNat)
  case atStart => exact ⟨0, none, 0, 0, [], Nat.zero_le _, rfl, rfl, Nat.zero_le _, HF0, HR0, rfl, (fun u hu => absurd hu (by simp)), (fun u hu => absurd hu (by simp)), List.Pairwise.nil, Below.refl _ _⟩
  case round =>
    clear HR0
    obtain ⟨k, va, vn, vc, l, hk, rfl, hvn, hl10, HF, HR, HP, HS, HUf, HA, HB⟩ := hrel
    have HVn : Hid (vn = l.length) := hvn
    have hvn10 : vn ≤ 10 := by omega
    have hsz : fb < wr.heap.size := HF.out.lt
    clear hvn
    by_cases hlt : k < n
    case neg =>
      obtain rfl : k = n := by omega
      have HEq : Hid (foldP (rs.map RE.r) = some (l.map UE.u)) := by show _ = _; rw [← HP.out, List.take_of_length_le (by rw [List.length_map, HN.out]; exact Nat.le_refl _)]
      have hx := HX.out _ HB.out
      have u0 := hx.2.2.2.1.cell 0 rfl
      have u1 := hx.2.2.2.1.frozen 0
      have o0 := hx.2.2.2.2.cell 0 rfl
      have o1 := hx.2.2.2.2.frozen 0
      have f0 := HF.out.cell 0 rfl
      have HRf : Hid (UpRow ((wr.setCell ⟨w.heap.size, 0, none⟩ (.slice va vn vc)).setCell ⟨w.heap.size + 1, 0, none⟩ (.bool true)) w.heap.size (.slice va vn vc) l) := by
        have h1 : UpRow (wr.setCell ⟨w.heap.size, 0, none⟩ (.slice va vn vc)) fb (.slice va vn vc) l := HR.out.setBox hx.2.2.2.1 (by decide) (by decide)
        exact (h1.setBox (hx.2.2.2.2.other (by omega) _) (by decide) (by decide)).low (by omega)
      have HBf : Hid (Below w.heap.size w ((wr.setCell ⟨w.heap.size, 0, none⟩ (.slice va vn vc)).setCell ⟨w.heap.size + 1, 0, none⟩ (.bool true))) := (hx.2.2.1.setCell (by exact Nat.le_refl _) _).setCell (by dsimp only; omega) _
      have HuO : Hid (BoxN (wr.setCell ⟨w.heap.size, 0, none⟩ (.slice va vn vc)) w.heap.size 30 [.slice va vn vc]) := hx.2.2.2.1.set 0 _
      have hO2 := hx.2.2.2.2
      clear HP HS HUf HA HB HR hx
      go_wp2_with fail
      refine leaves_cons (f := 99) (args := #[.pointer (some ⟨w.heap.size, 0, none⟩), .pointer (some ⟨w.heap.size + 1, 0, none⟩)]) (by simp) (by simp [go_sem]) ?_
      refine (catch_idle w.heap.size (w.heap.size + 1) _).mono ?_
      rintro e u' w'' ⟨rfl, rfl, rfl⟩
      obtain ⟨wf, hwf⟩ : ∃ wf, (wr.setCell ⟨w.heap.size, 0, none⟩ (.slice va vn vc)).setCell ⟨w.heap.size + 1, 0, none⟩ (.bool true) = wf := ⟨_, rfl⟩
      rw [hwf] at HRf HBf ⊢
      have cu : wf.cell? ⟨w.heap.size, 0, none⟩ = some (.slice va vn vc) := by rw [← hwf]; exact (HuO.out.other (by omega) _).cell 0 rfl
      have co : wf.cell? ⟨w.heap.size + 1, 0, none⟩ = some (.bool true) := by
        rw [← hwf]
        exact ((hO2.other (by omega) (.slice va vn vc)).set 0 (.bool true)).cell 0 rfl
      clear hwf
      simp [Leaves, settle, results, Tryz.results70, go_sem, cu, co]
      exact ⟨⟨_, ⟨rfl, by rw [HEq.out]; rfl⟩, l, HRf.out, by rw [HEq.out]; rfl, hl10⟩, HBf.out⟩
    have hkl : k < rs.length := by rw [← HN.out]; exact hlt
    have hki : (k : Int) < (n : Int) := by omega
    have hk0 : (0 : Int) ≤ (k : Int) := by omega
    have hkB : k * B ≤ 1099511627776 := Nat.le_trans (Nat.mul_le_mul_right _ hk) hnB
    obtain ⟨g, rfl, g0, g1, g2, g3, g4, g5, _⟩ := (HX.out _ HB.out).1.at HN.out hkl
    have HSg : Hid (∀ W, Below fb w0 W → Seg W (rs[k]).a (rs[k]).n (rs[k]).r.zs) := fun W hb => ((HX.out W hb).1.2.1 (rs[k]) (List.getElem_mem hkl)).seg
    have hen : (rs[k]).n ≤ B := HBs.out _ (List.getElem_mem hkl)
    have HIk : Hid (-9223372036854775808 ≤ (rs[k]).r.n ∧ (rs[k]).r.n ≤ 9223372036854775807) := HI.out _ (List.getElem_mem hkl)
    have HSt : Hid (foldP ((rs.map RE.r).take (k + 1)) = oneU (l.map UE.u) (rs[k]).r) := by
      show _ = _
      rw [foldP_step (rs.map RE.r) k (rs[k]).r (by rw [List.getElem?_map, List.getElem?_eq_getElem hkl]; rfl), HP.out]
      rfl
    have HSp : Hid (foldP ((rs.map RE.r).take (k + 1)) = none → foldP (rs.map RE.r) = none) := foldP_stop _ _
    generalize rs[k] = e at *
    have HZl : Hid (∀ x ∈ l, x.n ≤ 1099511627776) := fun x hx => by
      have h1 := (HR.out.2.1 x hx).seg.1
      have h2 := HS.out x.u (List.mem_map_of_mem hx)
      omega
    have HUl : Hid (∀ x ∈ l, UFit x.u) := fun x hx => HUf.out x.u (List.mem_map_of_mem hx)
    have hen2 : e.n ≤ 1099511627776 := by omega
    obtain ⟨w2, hw2⟩ : ∃ w2, wr.alloc (.cells #[.int .i64 e.r.e, .int .i64 e.r.q, .int .i64 e.r.k, .string e.r.id, .int .i64 e.r.n, .slice e.a e.n e.c] 59) = w2 := ⟨_, rfl⟩
    have HE2 : Hid (wr.alloc (.cells #[.int .i64 e.r.e, .int .i64 e.r.q, .int .i64 e.r.k, .string e.r.id, .int .i64 e.r.n, .slice e.a e.n e.c] 59) = w2) := hw2
    have hb2 : Below wr.heap.size wr w2 := by rw [← hw2]; exact (Below.refl _ _).alloc (Nat.le_refl _) _
    have hq2 : BoxN w2 wr.heap.size 59 [.int .i64 e.r.e, .int .i64 e.r.q, .int .i64 e.r.k, .string e.r.id, .int .i64 e.r.n, .slice e.a e.n e.c] := by rw [← hw2]; exact BoxN.new _ _ _
    have HB2 : Hid (Below fb w0 w2) := HB.out.trans (hb2.mono (by omega))
    have HF2 : Hid (BoxN w2 fb 117 [.slice va vn vc]) := HF.out.stays hb2
    have HR2 : Hid (UpRow w2 fb (.slice va vn vc) l) := HR.out.stays hb2
    have q0 := hq2.cell 0 rfl
    have q1 := hq2.cell 1 rfl
    have q2 := hq2.cell 2 rfl
    have q3 := hq2.cell 3 rfl
    have q4 := hq2.cell 4 rfl
    have q5 := hq2.cell 5 rfl
    have HC : Hid (Calls Tryz.prog 100 #[.pointer (some ⟨fb, 0, none⟩), .agg #[.int .i64 e.r.e, .int .i64 e.r.q, .int .i64 e.r.k, .string e.r.id, .int .i64 e.r.n, .slice e.a e.n e.c]] w2 fun ee w' => FoldAns w2 fb fb (oneU (l.map UE.u) e.r) ee w') :=
      implTake_any fb fb va vn vc l e.r.e e.r.q e.r.k e.r.id e.r.n e.a e.n e.c w2 HF2.out HR2.out HVn.out (by omega) (HX.out _ HB2.out).2.1 (by have := HF2.out.lt; omega) (Nat.le_refl _) e.r.zs (HSg.out _ HB2.out) hen2 HUl.out HZl.out (by omega) HA.out
    clear hw2 hb2 hq2 HP HF HR
    go_wp2_with fail
    rw [HE2.out]
    clear HE2 g0 g1 g2 g3 g4 g5
    go_wp2_with fail
    refine HC.out.mono ?_
    rintro ee w3 ⟨hans, hb3⟩
    have HB3 : Hid (Below fb w0 w3) := HB2.out.trans hb3
    clear hb3 HC q0 q1 q2 q3 q4 q5
    rcases hans with ⟨hno, t, v, rfl⟩ | ⟨a', n', c', l', rfl, hmap, hlen, hbx, hrow⟩
    · have HEq : Hid (foldP (rs.map RE.r) = none) := HSp.out (by rw [HSt.out]; exact hno)
      have hx := HX.out _ HB3.out
      have HuO : Hid (BoxN w3 w.heap.size 30 [.slice none 0 0]) := hx.2.2.2.1
      have HoO : Hid (BoxN w3 (w.heap.size + 1) 4 [.bool false]) := hx.2.2.2.2
      have HB4 : Hid (Below w.heap.size w w3) := hx.2.2.1
      clear hno hx HSt HSp
      go_wp2_with fail
      refine leaves_cons (f := 99) (args := #[.pointer (some ⟨w.heap.size, 0, none⟩), .pointer (some ⟨w.heap.size + 1, 0, none⟩)]) (by simp) (by simp [go_sem]) ?_
      refine (catch_pan w.heap.size (w.heap.size + 1) _ _ t v [] w3 (HuO.out.cell 0 rfl) (HuO.out.frozen 0) (HoO.out.cell 0 rfl) (HoO.out.frozen 0) (by omega)).mono ?_
      rintro e u' w'' ⟨rfl, rfl, rfl⟩
      obtain ⟨wf, hwf⟩ : ∃ wf, (w3.setCell ⟨w.heap.size, 0, none⟩ (.slice none 0 0)).setCell ⟨w.heap.size + 1, 0, none⟩ (.bool false) = wf := ⟨_, rfl⟩
      have cu : wf.cell? ⟨w.heap.size, 0, none⟩ = some (.slice none 0 0) := by rw [← hwf]; exact ((HuO.out.set 0 (.slice none 0 0)).other (by omega) _).cell 0 rfl
      have co : wf.cell? ⟨w.heap.size + 1, 0, none⟩ = some (.bool false) := by
        rw [← hwf]
        exact ((HoO.out.other (by omega) (.slice none 0 0)).set 0 (.bool false)).cell 0 rfl
      have HBf : Hid (Below w.heap.size w wf) := by
        show Below _ _ _
        rw [← hwf]
        exact (HB4.out.setCell (by exact Nat.le_refl _) _).setCell (by dsimp only; omega) _
      rw [hwf]
      clear hwf
      simp [Leaves, settle, results, Tryz.results70, go_sem, cu, co]
      exact ⟨⟨_, ⟨rfl, by rw [HEq.out]⟩, [], ⟨⟨rfl, .inl ⟨rfl, rfl⟩⟩, by simp, List.Pairwise.nil⟩, by rw [HEq.out]; rfl, Nat.zero_le _⟩, HBf.out⟩
    · have HF3 : Hid (BoxN w3 fb 117 [.slice a' n' c']) := hbx
      have HR3 : Hid (UpRow w3 fb (.slice a' n' c') l') := hrow
      have HP3 : Hid (foldP ((rs.map RE.r).take (k + 1)) = some (l'.map UE.u)) := by show _ = _; rw [HSt.out, hmap]
      have HS3 : Hid (∀ u ∈ l'.map UE.u, u.zs.length ≤ (k + 1) * B) := fun u hu => by
        have h1 := oneU_zs hmap HS.out u hu
        have h2 := (HSg.out _ HB2.out).1
        rw [Nat.add_mul, Nat.one_mul]
        omega
      have h10 : l'.length ≤ 10 := by
        have h1 := oneU_len hmap
        rw [List.length_map, List.length_map] at h1
        omega
      have HU3 : Hid (∀ x ∈ l'.map UE.u, UFit x) := oneU_fit HIk.out hmap HUf.out
      have HA3 : Hid (Asc (l'.map UE.u)) := oneU_asc HA.out hmap
      have HL3 : Hid (n' = l'.length) := hlen
      clear hmap hlen hbx hrow HSt HSp HS HUf HA
      go_wp2_with fail
      go_roundw
      case rel => exact ⟨k + 1, a', n', c', l', by omega, by go_num, HL3.out, h10, HF3, HR3, HP3, HS3, HU3, HA3, HB3⟩
      case measure => simp [intOf]; omega

end Go.Proofs.YtammmecddnafaaaGreatDoor

namespace Go.Proofs.YtammmecddnafaaaGreatDoor
open Go.RowKit
set_option linter.unusedVariables false

theorem conv_bytes {W : World} {a : Option Addr} {M c : Nat} {zs : List Int} (h : Seg W a M zs) : (convert 39 9 (.slice a M c)).run Tryz.prog W = .ok (.string (txU zs)) W := by
  rcases h.2.2 with h0 | ⟨b, off, e, _⟩
  · subst h0
    obtain rfl : zs = [] := List.eq_nil_of_length_eq_zero h.1
    cases a with
    | none => simp [go_sem, convert, txU, Conv.bytesToString, loadCells]; rfl
    | some ad => simp [go_sem, convert, txU, Conv.bytesToString, loadCells]; rfl
  · subst e
    exact conv_txt_at h

theorem txU_same {xs ys : List Int} (hx : ∀ z ∈ xs, 0 ≤ z ∧ z ≤ 255) (hy : ∀ z ∈ ys, 0 ≤ z ∧ z ≤ 255) : txU xs = txU ys ↔ xs = ys :=
  ⟨fun h => by rw [← txI_txU xs hx, h, txI_txU ys hy], fun h => by rw [h]⟩

end Go.Proofs.YtammmecddnafaaaGreatDoor
