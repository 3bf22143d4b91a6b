/- What the program's fold makes of a record. -/
import Derived.Test.YtiigdcpjelbdjaaGreatDoorM32
import Derived.Test.YtiigdcpjelbdjaaGreatDoorM32
import Derived.Test.YtiigdcpjelbdjaaGreatDoorM32
import Derived.Test.YtiigdcpjelbdjaaGreatDoorM32
import Derived.Laws.EntriesVeiled
import Derived.Shelf.Abstract
namespace Go.Proofs.YtiigdcpjelbdjaaGreatDoor
open Go.RowKit
set_option linter.unusedVariables false

/-- A record that begins an upload. -/
theorem implBegin_any (fb base : Nat) (a : Option Addr) (n c : Nat) (l : List UE) (e q k : Int) (id : ByteArray) (rn : Int) (ra : Option Addr) (d ca : Nat) (w : World) (hf : BoxN w fb 93 [.slice a n c]) (h : UpRow w base (.slice a n c) l) (hn : n = l.length) (hl : n ≤ 1099511627776) (he : ErrN w) (hbase : base ≤ w.heap.size) (hfb : base ≤ fb) (hn1 : n ≤ 1048576) :
    Calls Tryz.prog 77 #[.pointer (some ⟨fb, 0, none⟩), .agg #[.int .i64 e, .int .i64 q, .int .i64 k, .string id, .int .i64 rn, .slice ra d ca]] w fun e w' => FoldAns w base fb (beginO (l.map UE.u) id rn) e w' := by
  by_cases hc : atU (l.map UE.u) id = none ∧ n < 10
  · refine (begin_yes fb base a n c l e q k id rn ra d ca w hf h hn hl he hbase hfb hc).mono ?_
    rintro ee w' ⟨⟨a', c', rfl, h1, h2⟩, h3⟩
    have hln := h2.1.1
    refine ⟨.inr ⟨a', n + 1, c', _, rfl, ?_, ?_, h1, h2⟩, h3⟩
    · rw [beginO, if_pos ⟨hc.1, by rw [List.length_map, ← hn]; exact hc.2⟩]
      simp [List.map_take, List.map_drop]
    · have := lessU_le id (l.map UE.u)
      rw [List.length_map] at this
      simp only [List.length_append, List.length_take, List.length_drop, List.length_cons, List.length_nil]
      omega
  · refine (begin_no fb base a n c l e q k id rn ra d ca w hf h hn hl he hc).mono ?_
    rintro ee w' ⟨h1, h2⟩
    refine ⟨.inl ⟨?_, h1⟩, h2.mono hbase⟩
    rw [beginO, if_neg (fun h => hc ⟨h.1, by rw [hn]; simpa using h.2⟩)]

/-- A record of no Kind makes nothing. -/
theorem oneU_kind {l : List U} {r : R} (h : ¬ (1 ≤ r.k ∧ r.k ≤ 4)) : oneU l r = none := by
  have h1 : r.k ≠ 1 := by omega
  have h2 : r.k ≠ 2 := by omega
  have h3 : r.k ≠ 3 := by omega
  have h4 : r.k ≠ 4 := by omega
  rw [oneU, if_neg h1]
  split
  · rfl
  · split
    · rfl
    · rw [if_neg h2, if_neg h3, if_neg h4]

set_option maxRecDepth 10000 in
set_option maxHeartbeats 1600000 in
theorem implTake_any (fb base : Nat) (a : Option Addr) (n c : Nat) (l : List UE) (e q k : Int) (id : ByteArray) (rn : Int) (ra : Option Addr) (d ca : Nat) (w : World) (hf : BoxN w fb 93 [.slice a n c]) (h : UpRow w base (.slice a n c) l) (hn : n = l.length) (hl : n ≤ 1099511627776) (he : ErrN w) (hbase : base ≤ w.heap.size) (hfb : base ≤ fb) (ys : List Int) (hs : Seg w ra d ys) (hd : d ≤ 1099511627776) (hfit : ∀ x ∈ l, UFit x.u) (hzl : ∀ x ∈ l, x.n ≤ 1099511627776) (hn1 : n ≤ 1048576) (hasc : Asc (l.map UE.u)) :
    Calls Tryz.prog 50 #[.pointer (some ⟨fb, 0, none⟩), .agg #[.int .i64 e, .int .i64 q, .int .i64 k, .string id, .int .i64 rn, .slice ra d ca]] w fun ee w' => FoldAns w base fb (oneU (l.map UE.u) ⟨e, q, k, id, rn, ys⟩) ee w' := by
  obtain ⟨w0, hw0⟩ : ∃ w0, (w.alloc (.cells #[.int .i64 e, .int .i64 q, .int .i64 k, .string id, .int .i64 rn, .slice ra d ca] 54)).alloc (.cells #[.nilFunc, .func (.func 77) #[] #[], .func (.func 78) #[] #[], .func (.func 79) #[] #[], .func (.func 80) #[] #[]] 115) = w0 := ⟨_, rfl⟩
  have HE : Hid ((w.alloc (.cells #[.int .i64 e, .int .i64 q, .int .i64 k, .string id, .int .i64 rn, .slice ra d ca] 54)).alloc (.cells #[.nilFunc, .func (.func 77) #[] #[], .func (.func 78) #[] #[], .func (.func 79) #[] #[], .func (.func 80) #[] #[]] 115) = w0) := hw0
  have HQ : Hid (BoxN w0 w.heap.size 54 [.int .i64 e, .int .i64 q, .int .i64 k, .string id, .int .i64 rn, .slice ra d ca]) := by show BoxN _ _ _ _; rw [← hw0]; exact (BoxN.new _ _ _).alloc _
  have HM : Hid (BoxN w0 (w.heap.size + 1) 115 [.nilFunc, .func (.func 77) #[] #[], .func (.func 78) #[] #[], .func (.func 79) #[] #[], .func (.func 80) #[] #[]]) := by
    show BoxN _ _ _ _
    rw [← hw0]
    have := BoxN.new (w.alloc (.cells #[.int .i64 e, .int .i64 q, .int .i64 k, .string id, .int .i64 rn, .slice ra d ca] 54)) 115 [.nilFunc, .func (.func 77) #[] #[], .func (.func 78) #[] #[], .func (.func 79) #[] #[], .func (.func 80) #[] #[]]
    rw [World.size_alloc] at this
    exact this
  have HB : Hid (Below w.heap.size w w0) := by show Below _ _ _; rw [← hw0]; exact ((Below.refl _ _).alloc (Nat.le_refl _) _).alloc (by simp) _
  have HX : Hid (∀ W, Below w0.heap.size w0 W → BoxN W fb 93 [.slice a n c] ∧ UpRow W base (.slice a n c) l ∧ ErrN W ∧ Below w.heap.size w W ∧ BoxN W w.heap.size 54 [.int .i64 e, .int .i64 q, .int .i64 k, .string id, .int .i64 rn, .slice ra d ca] ∧ BoxN W (w.heap.size + 1) 115 [.nilFunc, .func (.func 77) #[] #[], .func (.func 78) #[] #[], .func (.func 79) #[] #[], .func (.func 80) #[] #[]] ∧ Seg W ra d ys) := fun W hb => ⟨(hf.stays HB.out).stays hb, (h.stays HB.out).stays hb, (he.below HB.out).below hb, HB.out.trans (hb.mono HB.out.size), HQ.out.stays hb, HM.out.stays hb, (hs.below HB.out).below hb⟩
  have HN : Hid (n = l.length) := hn
  have HFi : Hid (∀ x ∈ l, UFit x.u) := hfit
  have HZl : Hid (∀ x ∈ l, x.n ≤ 1099511627776) := hzl
  have HA : Hid (Asc (l.map UE.u)) := hasc
  have hx0 := HX.out w0 (Below.refl _ _)
  obtain ⟨r0, r1, r2, r3, r4, r5⟩ := (show _ ∧ _ ∧ _ ∧ _ ∧ _ ∧ _ from ⟨hx0.2.2.2.2.1.cell 0 rfl, hx0.2.2.2.2.1.cell 1 rfl, hx0.2.2.2.2.1.cell 2 rfl, hx0.2.2.2.2.1.cell 3 rfl, hx0.2.2.2.2.1.cell 4 rfl, hx0.2.2.2.2.1.cell 5 rfl⟩)
  clear hw0 hf h hn he HQ HB HM hs hfit hzl hasc hx0
  go_enter Tryz.func50, Tryz.ntmps50
  go_upto_region 2 with fail
  rw [HE.out]
  clear HE
  go_wp2_with fail
  refine (implKind_any k _).mono ?_
  rintro _ w1 ⟨rfl, rfl⟩
  have HB1 : Hid (Below w1.heap.size w1 w1) := Below.refl _ _
  clear r0 r1 r2 r3 r4 r5
  by_cases hk : 1 ≤ k ∧ k ≤ 4
  case neg =>
    have HF : Hid (oneU (l.map UE.u) ⟨e, q, k, id, rn, ys⟩ = none) := oneU_kind hk
    rw [decide_eq_false hk]
    clear hk
    go_wp2_with fail
    refine (mustFit_no _ (HX.out _ HB1.out).2.2.1).mono ?_
    rintro _ x2 ⟨⟨t, v, rfl⟩, rfl⟩
    go_wp2_with fail
    exact ⟨rfl, .inl ⟨HF.out, t, v, rfl⟩, (HX.out _ HB1.out).2.2.2.1.mono hbase⟩
  case pos =>
    rw [decide_eq_true hk]
    go_wp2_with fail
    refine (mustFit_yes _).mono ?_
    rintro _ w2 ⟨rfl, rfl⟩
    go_upto_region 3 with fail
    have HBx : Hid (∀ P : Past w2, Below w2.heap.size w2 P.world) := fun P => P.below
    have y0 : ∀ P : Past w2, P.world.cell? ⟨w.heap.size, 0, none⟩ = some (.int .i64 e) := fun P => (HX.out _ (HBx.out P)).2.2.2.2.1.cell 0 rfl
    have y1 : ∀ P : Past w2, P.world.cell? ⟨w.heap.size, 1, none⟩ = some (.int .i64 q) := fun P => (HX.out _ (HBx.out P)).2.2.2.2.1.cell 1 rfl
    have y2 : ∀ P : Past w2, P.world.cell? ⟨w.heap.size, 2, none⟩ = some (.int .i64 k) := fun P => (HX.out _ (HBx.out P)).2.2.2.2.1.cell 2 rfl
    have y3 : ∀ P : Past w2, P.world.cell? ⟨w.heap.size, 3, none⟩ = some (.string id) := fun P => (HX.out _ (HBx.out P)).2.2.2.2.1.cell 3 rfl
    have y4 : ∀ P : Past w2, P.world.cell? ⟨w.heap.size, 4, none⟩ = some (.int .i64 rn) := fun P => (HX.out _ (HBx.out P)).2.2.2.2.1.cell 4 rfl
    have y5 : ∀ P : Past w2, P.world.cell? ⟨w.heap.size, 5, none⟩ = some (.slice ra d ca) := fun P => (HX.out _ (HBx.out P)).2.2.2.2.1.cell 5 rfl
    have m1 : ∀ P : Past w2, P.world.cell? ⟨w.heap.size + 1, 1, none⟩ = some (.func (.func 77) #[] #[]) := fun P => (HX.out _ (HBx.out P)).2.2.2.2.2.1.cell 1 rfl
    have m2 : ∀ P : Past w2, P.world.cell? ⟨w.heap.size + 1, 2, none⟩ = some (.func (.func 78) #[] #[]) := fun P => (HX.out _ (HBx.out P)).2.2.2.2.2.1.cell 2 rfl
    have m3 : ∀ P : Past w2, P.world.cell? ⟨w.heap.size + 1, 3, none⟩ = some (.func (.func 79) #[] #[]) := fun P => (HX.out _ (HBx.out P)).2.2.2.2.2.1.cell 3 rfl
    have m4 : ∀ P : Past w2, P.world.cell? ⟨w.heap.size + 1, 4, none⟩ = some (.func (.func 80) #[] #[]) := fun P => (HX.out _ (HBx.out P)).2.2.2.2.2.1.cell 4 rfl
    have hne := past_some w2
    have hk4 : k = 1 ∨ k = 2 ∨ k = 3 ∨ k = 4 := by omega
    rcases hk4 with rfl | rfl | rfl | rfl
    · have HO1 : Hid (beginO (l.map UE.u) id rn = oneU (l.map UE.u) ⟨e, q, 1, id, rn, ys⟩) := one1 HA.out
      have eg : ∀ (args : Array Value) (w : World), Sem.run Tryz.prog (callFunc 77 args) w = .ok (.enter 77 args) w := enters_of Tryz.func77 (by kernel_rfl) rfl
      refine wp_region_past_tail 6 (by kernel_rfl) (by kernel_rfl) (fun ops HO => ?_)
      simp only [List.take_succ_cons, List.take_zero, List.drop_succ_cons, List.drop_zero]
      iterate 6 (quiet_step ((first | fail)))
      refine wpQuiet_nil ?_
      rintro _ ⟨z, rfl⟩
      have HB2 : Hid (Below w2.heap.size w2 z.world) := HBx.out z
      obtain ⟨W2, hW2⟩ : ∃ W2, z.world = W2 := ⟨_, rfl⟩
      rw [hW2] at HB2 ⊢
      clear hW2 z hne y0 y1 y2 y3 y4 y5 m1 m2 m3 m4
      have HC : Hid (Calls Tryz.prog 77 #[.pointer (some ⟨fb, 0, none⟩), .agg #[.int .i64 e, .int .i64 q, .int .i64 1, .string id, .int .i64 rn, .slice ra d ca]] W2 fun e w' => FoldAns W2 base fb (beginO (l.map UE.u) id rn) e w') := by
        have hx := HX.out _ HB2.out
        exact implBegin_any fb base a n c l e q 1 id rn ra d ca W2 hx.1 hx.2.1 HN.out hl hx.2.2.1 (Nat.le_trans hbase hx.2.2.2.1.size) hfb hn1
      go_wp2_with fail
      refine HC.out.mono ?_
      rintro ee w4 ⟨hans, hb4⟩
      have HBf : Hid (Below base w w4) := ((HX.out _ HB2.out).2.2.2.1.mono hbase).trans hb4
      rw [HO1.out] at hans
      rcases hans with ⟨hno, t, v, rfl⟩ | ⟨a', n', c', l', rfl, hmap, hlen, hbx, hrow⟩
      · go_wp2_with fail
        exact ⟨rfl, .inl ⟨hno, t, v, rfl⟩, HBf.out⟩
      · have HR : Hid (FoldAns w base fb (oneU (l.map UE.u) ⟨e, q, 1, id, rn, ys⟩) (.returned (.tuple #[])) w4) := ⟨.inr ⟨a', n', c', l', rfl, hmap, hlen, hbx, hrow⟩, HBf.out⟩
        clear hmap hlen hbx hrow HC
        go_wp2_with fail
        go_end0
        exact HR.out
    · have HO1 : Hid (growO (l.map UE.u) id rn ys = oneU (l.map UE.u) ⟨e, q, 2, id, rn, ys⟩) := one2 HA.out
      have eg : ∀ (args : Array Value) (w : World), Sem.run Tryz.prog (callFunc 78 args) w = .ok (.enter 78 args) w := enters_of Tryz.func78 (by kernel_rfl) rfl
      refine wp_region_past_tail 6 (by kernel_rfl) (by kernel_rfl) (fun ops HO => ?_)
      simp only [List.take_succ_cons, List.take_zero, List.drop_succ_cons, List.drop_zero]
      iterate 6 (quiet_step ((first | fail)))
      refine wpQuiet_nil ?_
      rintro _ ⟨z, rfl⟩
      have HB2 : Hid (Below w2.heap.size w2 z.world) := HBx.out z
      obtain ⟨W2, hW2⟩ : ∃ W2, z.world = W2 := ⟨_, rfl⟩
      rw [hW2] at HB2 ⊢
      clear hW2 z hne y0 y1 y2 y3 y4 y5 m1 m2 m3 m4
      have HC : Hid (Calls Tryz.prog 78 #[.pointer (some ⟨fb, 0, none⟩), .agg #[.int .i64 e, .int .i64 q, .int .i64 2, .string id, .int .i64 rn, .slice ra d ca]] W2 fun e w' => FoldAns W2 base fb (growO (l.map UE.u) id rn ys) e w') := by
        have hx := HX.out _ HB2.out
        exact implGrow_any fb base a n c l e q 2 id rn ra d ca W2 hx.1 hx.2.1 HN.out hl hx.2.2.1 (Nat.le_trans hbase hx.2.2.2.1.size) hfb ys hx.2.2.2.2.2.2 hd HFi.out HZl.out
      go_wp2_with fail
      refine HC.out.mono ?_
      rintro ee w4 ⟨hans, hb4⟩
      have HBf : Hid (Below base w w4) := ((HX.out _ HB2.out).2.2.2.1.mono hbase).trans hb4
      rw [HO1.out] at hans
      rcases hans with ⟨hno, t, v, rfl⟩ | ⟨a', n', c', l', rfl, hmap, hlen, hbx, hrow⟩
      · go_wp2_with fail
        exact ⟨rfl, .inl ⟨hno, t, v, rfl⟩, HBf.out⟩
      · have HR : Hid (FoldAns w base fb (oneU (l.map UE.u) ⟨e, q, 2, id, rn, ys⟩) (.returned (.tuple #[])) w4) := ⟨.inr ⟨a', n', c', l', rfl, hmap, hlen, hbx, hrow⟩, HBf.out⟩
        clear hmap hlen hbx hrow HC
        go_wp2_with fail
        go_end0
        exact HR.out
    · have HO1 : Hid (doneO (l.map UE.u) id = oneU (l.map UE.u) ⟨e, q, 3, id, rn, ys⟩) := one3 HA.out
      have eg : ∀ (args : Array Value) (w : World), Sem.run Tryz.prog (callFunc 79 args) w = .ok (.enter 79 args) w := enters_of Tryz.func79 (by kernel_rfl) rfl
      refine wp_region_past_tail 6 (by kernel_rfl) (by kernel_rfl) (fun ops HO => ?_)
      simp only [List.take_succ_cons, List.take_zero, List.drop_succ_cons, List.drop_zero]
      iterate 6 (quiet_step ((first | fail)))
      refine wpQuiet_nil ?_
      rintro _ ⟨z, rfl⟩
      have HB2 : Hid (Below w2.heap.size w2 z.world) := HBx.out z
      obtain ⟨W2, hW2⟩ : ∃ W2, z.world = W2 := ⟨_, rfl⟩
      rw [hW2] at HB2 ⊢
      clear hW2 z hne y0 y1 y2 y3 y4 y5 m1 m2 m3 m4
      have HC : Hid (Calls Tryz.prog 79 #[.pointer (some ⟨fb, 0, none⟩), .agg #[.int .i64 e, .int .i64 q, .int .i64 3, .string id, .int .i64 rn, .slice ra d ca]] W2 fun e w' => FoldAns W2 base fb (doneO (l.map UE.u) id) e w') := by
        have hx := HX.out _ HB2.out
        exact implFinish_any fb base a n c l e q 3 id rn ra d ca W2 hx.1 hx.2.1 HN.out hl hx.2.2.1 (Nat.le_trans hbase hx.2.2.2.1.size) hfb HZl.out
      go_wp2_with fail
      refine HC.out.mono ?_
      rintro ee w4 ⟨hans, hb4⟩
      have HBf : Hid (Below base w w4) := ((HX.out _ HB2.out).2.2.2.1.mono hbase).trans hb4
      rw [HO1.out] at hans
      rcases hans with ⟨hno, t, v, rfl⟩ | ⟨a', n', c', l', rfl, hmap, hlen, hbx, hrow⟩
      · go_wp2_with fail
        exact ⟨rfl, .inl ⟨hno, t, v, rfl⟩, HBf.out⟩
      · have HR : Hid (FoldAns w base fb (oneU (l.map UE.u) ⟨e, q, 3, id, rn, ys⟩) (.returned (.tuple #[])) w4) := ⟨.inr ⟨a', n', c', l', rfl, hmap, hlen, hbx, hrow⟩, HBf.out⟩
        clear hmap hlen hbx hrow HC
        go_wp2_with fail
        go_end0
        exact HR.out
    · have HO1 : Hid (dropO (l.map UE.u) id = oneU (l.map UE.u) ⟨e, q, 4, id, rn, ys⟩) := one4 HA.out
      have eg : ∀ (args : Array Value) (w : World), Sem.run Tryz.prog (callFunc 80 args) w = .ok (.enter 80 args) w := enters_of Tryz.func80 (by kernel_rfl) rfl
      refine wp_region_past_tail 6 (by kernel_rfl) (by kernel_rfl) (fun ops HO => ?_)
      simp only [List.take_succ_cons, List.take_zero, List.drop_succ_cons, List.drop_zero]
      iterate 6 (quiet_step ((first | fail)))
      refine wpQuiet_nil ?_
      rintro _ ⟨z, rfl⟩
      have HB2 : Hid (Below w2.heap.size w2 z.world) := HBx.out z
      obtain ⟨W2, hW2⟩ : ∃ W2, z.world = W2 := ⟨_, rfl⟩
      rw [hW2] at HB2 ⊢
      clear hW2 z hne y0 y1 y2 y3 y4 y5 m1 m2 m3 m4
      have HC : Hid (Calls Tryz.prog 80 #[.pointer (some ⟨fb, 0, none⟩), .agg #[.int .i64 e, .int .i64 q, .int .i64 4, .string id, .int .i64 rn, .slice ra d ca]] W2 fun e w' => FoldAns W2 base fb (dropO (l.map UE.u) id) e w') := by
        have hx := HX.out _ HB2.out
        exact implDrop_any fb base a n c l e q 4 id rn ra d ca W2 hx.1 hx.2.1 HN.out hl hx.2.2.1 (Nat.le_trans hbase hx.2.2.2.1.size) hfb hn1
      go_wp2_with fail
      refine HC.out.mono ?_
      rintro ee w4 ⟨hans, hb4⟩
      have HBf : Hid (Below base w w4) := ((HX.out _ HB2.out).2.2.2.1.mono hbase).trans hb4
      rw [HO1.out] at hans
      rcases hans with ⟨hno, t, v, rfl⟩ | ⟨a', n', c', l', rfl, hmap, hlen, hbx, hrow⟩
      · go_wp2_with fail
        exact ⟨rfl, .inl ⟨hno, t, v, rfl⟩, HBf.out⟩
      · have HR : Hid (FoldAns w base fb (oneU (l.map UE.u) ⟨e, q, 4, id, rn, ys⟩) (.returned (.tuple #[])) w4) := ⟨.inr ⟨a', n', c', l', rfl, hmap, hlen, hbx, hrow⟩, HBf.out⟩
        clear hmap hlen hbx hrow HC
        go_wp2_with fail
        go_end0
        exact HR.out

end Go.Proofs.YtiigdcpjelbdjaaGreatDoor
