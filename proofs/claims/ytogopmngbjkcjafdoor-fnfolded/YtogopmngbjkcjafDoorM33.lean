/- What records make, said as the program goes; no program in it. Whether a Kind is one of a record's: what the program's own helper answers. What the program's fold makes of a record. What records make by the program, one behind the other; no program in it. What the program's FoldRecs answers. -/
import Derived.Test.YtogopmngbjkcjafDoorM31
import Derived.Test.YtogopmngbjkcjafDoorM32
import Derived.Test.YtogopmngbjkcjafDoorM32
import Derived.Test.YtogopmngbjkcjafDoorM01
import Derived.Laws.EntriesVeiled
import Derived.Shelf.Abstract
import Derived.Test.YtogopmngbjkcjafDoorM10
import Derived.Defers
import Derived.Recover
namespace Go.Proofs.YtogopmngbjkcjafDoor
open Go.RowKit
set_option linter.unusedVariables false

/-- What a record that begins an upload makes, said as the program goes. -/
def beginO (l : List U) (id : ByteArray) (rn : Int) : Option (List U) := if atU l id = none ∧ l.length < 10 then some (l.take (lessU l id) ++ [⟨id, rn, [], false⟩] ++ l.drop (lessU l id)) else none

section
variable {l : List U} {e q : Int} {id : ByteArray} {rn : Int} {ys : List Int}

theorem one1 (h : Asc l) : beginO l id rn = oneU l ⟨e, q, 1, id, rn, ys⟩ := by
  rw [beginO, oneU, if_pos rfl]
  by_cases hc : atU l id = none ∧ l.length < 10
  · rw [if_pos hc, if_pos hc, makeU_less h hc.1]
    simp
  · rw [if_neg hc, if_neg hc]

theorem one2 (h : Asc l) : growO l id rn ys = oneU l ⟨e, q, 2, id, rn, ys⟩ := by
  rw [growO, oneU, if_neg (show ¬ (2 : Int) = 1 by decide)]
  dsimp only
  cases atU l id with
  | none => rfl
  | some k =>
    dsimp only
    cases l[k]? with
    | none => rfl
    | some u =>
      dsimp only
      rw [if_pos (show (2 : Int) = 2 from rfl)]
      by_cases hc : u.done = true ∨ rn ≠ (u.zs.length : Int) ∨ u.want < rn + (ys.length : Int)
      · rw [if_pos hc, if_neg]
        intro hf
        simp only [fitB, Bool.and_eq_true, Bool.not_eq_true', decide_eq_true_eq] at hf
        rcases hc with hc | hc | hc
        · rw [hf.1.1] at hc; cases hc
        · exact hc hf.1.2
        · omega
      · rw [if_neg hc, if_pos]
        simp only [fitB, Bool.and_eq_true, Bool.not_eq_true', decide_eq_true_eq]
        simp only [not_or] at hc
        exact ⟨⟨by simpa using hc.1, by omega⟩, by omega⟩

theorem one3 (h : Asc l) : doneO l id = oneU l ⟨e, q, 3, id, rn, ys⟩ := by
  rw [doneO, oneU, if_neg (show ¬ (3 : Int) = 1 by decide)]
  dsimp only
  cases atU l id with
  | none => rfl
  | some k =>
    dsimp only
    cases l[k]? with
    | none => rfl
    | some u =>
      dsimp only
      rw [if_neg (show ¬ (3 : Int) = 2 by decide), if_pos (show (3 : Int) = 3 from rfl)]
      by_cases hc : u.done = true ∨ (u.zs.length : Int) ≠ u.want
      · rw [if_pos hc, if_neg]
        rintro ⟨h1, h2⟩
        rcases hc with hc | hc
        · rw [h1] at hc; cases hc
        · exact hc h2
      · rw [if_neg hc, if_pos]
        simp only [not_or] at hc
        exact ⟨by simpa using hc.1, by omega⟩

theorem one4 (h : Asc l) : dropO l id = oneU l ⟨e, q, 4, id, rn, ys⟩ := by
  rw [dropO, oneU, if_neg (show ¬ (4 : Int) = 1 by decide)]
  dsimp only
  cases hk : atU l id with
  | none => rfl
  | some k =>
    dsimp only
    obtain ⟨hkl, _⟩ := atU_is hk
    rw [List.getElem?_eq_getElem hkl]
    dsimp only
    rw [if_neg (show ¬ (4 : Int) = 2 by decide), if_neg (show ¬ (4 : Int) = 3 by decide), if_pos (show (4 : Int) = 4 from rfl), erase_kept h hk]
end

end Go.Proofs.YtogopmngbjkcjafDoor

namespace Go.Proofs.YtogopmngbjkcjafDoor
open Go.RowKit
set_option linter.unusedVariables false

theorem implKind_any (k : Int) (w : World) :
    Calls Tryd.prog 29 #[.int .i64 k] w fun e w' => e = .returned (.bool (decide (1 ≤ k ∧ k ≤ 4))) ∧ w' = w := by
  by_cases h1 : 1 ≤ k
  · by_cases h4 : k ≤ 4
    · have HF : Hid (decide (1 ≤ k ∧ k ≤ 4) = true) := decide_eq_true ⟨h1, h4⟩
      have d1 : decide (1 ≤ k) = true := decide_eq_true h1
      have d4 : decide (k ≤ 4) = true := decide_eq_true h4
      rw [HF.out]
      go_enter Tryd.func29, Tryd.ntmps29
      go_wp2_with fail
      go_ret
      exact ⟨rfl, rfl⟩
    · have HF : Hid (decide (1 ≤ k ∧ k ≤ 4) = false) := decide_eq_false (fun h => h4 h.2)
      have d1 : decide (1 ≤ k) = true := decide_eq_true h1
      have d4 : decide (k ≤ 4) = false := decide_eq_false h4
      rw [HF.out]
      go_enter Tryd.func29, Tryd.ntmps29
      go_wp2_with fail
      go_ret
      exact ⟨rfl, rfl⟩
  · have HF : Hid (decide (1 ≤ k ∧ k ≤ 4) = false) := decide_eq_false (fun h => h1 h.1)
    have d1 : decide (1 ≤ k) = false := decide_eq_false h1
    rw [HF.out]
    go_enter Tryd.func29, Tryd.ntmps29
    go_wp2_with fail
    go_ret
    exact ⟨rfl, rfl⟩

end Go.Proofs.YtogopmngbjkcjafDoor

namespace Go.Proofs.YtogopmngbjkcjafDoor
open Go.RowKit
set_option linter.unusedVariables false

/-- A record that begins an upload. -/
theorem implBegin_any (fb base : Nat) (a : Option Addr) (n c : Nat) (l : List UE) (e q k : Int) (id : ByteArray) (rn : Int) (ra : Option Addr) (d ca : Nat) (w : World) (hf : BoxN w fb 47 [.slice a n c]) (h : UpRow w base (.slice a n c) l) (hn : n = l.length) (hl : n ≤ 1099511627776) (he : ErrN w) (hbase : base ≤ w.heap.size) (hfb : base ≤ fb) (hn1 : n ≤ 1048576) :
    Calls Tryd.prog 24 #[.pointer (some ⟨fb, 0, none⟩), .agg #[.int .i64 e, .int .i64 q, .int .i64 k, .string id, .int .i64 rn, .slice ra d ca]] w fun e w' => FoldAns w base fb (beginO (l.map UE.u) id rn) e w' := by
  by_cases hc : atU (l.map UE.u) id = none ∧ n < 10
  · refine (begin_yes fb base a n c l e q k id rn ra d ca w hf h hn hl he hbase hfb hc).mono ?_
    rintro ee w' ⟨⟨a', c', rfl, h1, h2⟩, h3⟩
    have hln := h2.1.1
    refine ⟨.inr ⟨a', n + 1, c', _, rfl, ?_, ?_, h1, h2⟩, h3⟩
    · rw [beginO, if_pos ⟨hc.1, by rw [List.length_map, ← hn]; exact hc.2⟩]
      simp [List.map_take, List.map_drop]
    · have := lessU_le id (l.map UE.u)
      rw [List.length_map] at this
      simp only [List.length_append, List.length_take, List.length_drop, List.length_cons, List.length_nil]
      omega
  · refine (begin_no fb base a n c l e q k id rn ra d ca w hf h hn hl he hc).mono ?_
    rintro ee w' ⟨h1, h2⟩
    refine ⟨.inl ⟨?_, h1⟩, h2.mono hbase⟩
    rw [beginO, if_neg (fun h => hc ⟨h.1, by rw [hn]; simpa using h.2⟩)]

/-- A record of no Kind makes nothing. -/
theorem oneU_kind {l : List U} {r : R} (h : ¬ (1 ≤ r.k ∧ r.k ≤ 4)) : oneU l r = none := by
  have h1 : r.k ≠ 1 := by omega
  have h2 : r.k ≠ 2 := by omega
  have h3 : r.k ≠ 3 := by omega
  have h4 : r.k ≠ 4 := by omega
  rw [oneU, if_neg h1]
  split
  · rfl
  · split
    · rfl
    · rw [if_neg h2, if_neg h3, if_neg h4]

set_option maxRecDepth 10000 in
set_option maxHeartbeats 1600000 in
theorem implTake_any (fb base : Nat) (a : Option Addr) (n c : Nat) (l : List UE) (e q k : Int) (id : ByteArray) (rn : Int) (ra : Option Addr) (d ca : Nat) (w : World) (hf : BoxN w fb 47 [.slice a n c]) (h : UpRow w base (.slice a n c) l) (hn : n = l.length) (hl : n ≤ 1099511627776) (he : ErrN w) (hbase : base ≤ w.heap.size) (hfb : base ≤ fb) (ys : List Int) (hs : Seg w ra d ys) (hd : d ≤ 1099511627776) (hfit : ∀ x ∈ l, UFit x.u) (hzl : ∀ x ∈ l, x.n ≤ 1099511627776) (hn1 : n ≤ 1048576) (hasc : Asc (l.map UE.u)) :
    Calls Tryd.prog 15 #[.pointer (some ⟨fb, 0, none⟩), .agg #[.int .i64 e, .int .i64 q, .int .i64 k, .string id, .int .i64 rn, .slice ra d ca]] w fun ee w' => FoldAns w base fb (oneU (l.map UE.u) ⟨e, q, k, id, rn, ys⟩) ee w' := by
  obtain ⟨w0, hw0⟩ : ∃ w0, (w.alloc (.cells #[.int .i64 e, .int .i64 q, .int .i64 k, .string id, .int .i64 rn, .slice ra d ca] 43)).alloc (.cells #[.nilFunc, .func (.func 24) #[] #[], .func (.func 25) #[] #[], .func (.func 26) #[] #[], .func (.func 27) #[] #[]] 63) = w0 := ⟨_, rfl⟩
  have HE : Hid ((w.alloc (.cells #[.int .i64 e, .int .i64 q, .int .i64 k, .string id, .int .i64 rn, .slice ra d ca] 43)).alloc (.cells #[.nilFunc, .func (.func 24) #[] #[], .func (.func 25) #[] #[], .func (.func 26) #[] #[], .func (.func 27) #[] #[]] 63) = w0) := hw0
  have HQ : Hid (BoxN w0 w.heap.size 43 [.int .i64 e, .int .i64 q, .int .i64 k, .string id, .int .i64 rn, .slice ra d ca]) := by show BoxN _ _ _ _; rw [← hw0]; exact (BoxN.new _ _ _).alloc _
  have HM : Hid (BoxN w0 (w.heap.size + 1) 63 [.nilFunc, .func (.func 24) #[] #[], .func (.func 25) #[] #[], .func (.func 26) #[] #[], .func (.func 27) #[] #[]]) := by
    show BoxN _ _ _ _
    rw [← hw0]
    have := BoxN.new (w.alloc (.cells #[.int .i64 e, .int .i64 q, .int .i64 k, .string id, .int .i64 rn, .slice ra d ca] 43)) 63 [.nilFunc, .func (.func 24) #[] #[], .func (.func 25) #[] #[], .func (.func 26) #[] #[], .func (.func 27) #[] #[]]
    rw [World.size_alloc] at this
    exact this
  have HB : Hid (Below w.heap.size w w0) := by show Below _ _ _; rw [← hw0]; exact ((Below.refl _ _).alloc (Nat.le_refl _) _).alloc (by simp) _
  have HX : Hid (∀ W, Below w0.heap.size w0 W → BoxN W fb 47 [.slice a n c] ∧ UpRow W base (.slice a n c) l ∧ ErrN W ∧ Below w.heap.size w W ∧ BoxN W w.heap.size 43 [.int .i64 e, .int .i64 q, .int .i64 k, .string id, .int .i64 rn, .slice ra d ca] ∧ BoxN W (w.heap.size + 1) 63 [.nilFunc, .func (.func 24) #[] #[], .func (.func 25) #[] #[], .func (.func 26) #[] #[], .func (.func 27) #[] #[]] ∧ Seg W ra d ys) := fun W hb => ⟨(hf.stays HB.out).stays hb, (h.stays HB.out).stays hb, (he.below HB.out).below hb, HB.out.trans (hb.mono HB.out.size), HQ.out.stays hb, HM.out.stays hb, (hs.below HB.out).below hb⟩
  have HN : Hid (n = l.length) := hn
  have HFi : Hid (∀ x ∈ l, UFit x.u) := hfit
  have HZl : Hid (∀ x ∈ l, x.n ≤ 1099511627776) := hzl
  have HA : Hid (Asc (l.map UE.u)) := hasc
  have hx0 := HX.out w0 (Below.refl _ _)
  obtain ⟨r0, r1, r2, r3, r4, r5⟩ := (show _ ∧ _ ∧ _ ∧ _ ∧ _ ∧ _ from ⟨hx0.2.2.2.2.1.cell 0 rfl, hx0.2.2.2.2.1.cell 1 rfl, hx0.2.2.2.2.1.cell 2 rfl, hx0.2.2.2.2.1.cell 3 rfl, hx0.2.2.2.2.1.cell 4 rfl, hx0.2.2.2.2.1.cell 5 rfl⟩)
  clear hw0 hf h hn he HQ HB HM hs hfit hzl hasc hx0
  go_enter Tryd.func15, Tryd.ntmps15
  go_upto_region 2 with fail
  rw [HE.out]
  clear HE
  go_wp2_with fail
  refine (implKind_any k _).mono ?_
  rintro _ w1 ⟨rfl, rfl⟩
  have HB1 : Hid (Below w1.heap.size w1 w1) := Below.refl _ _
  clear r0 r1 r2 r3 r4 r5
  by_cases hk : 1 ≤ k ∧ k ≤ 4
  case neg =>
    have HF : Hid (oneU (l.map UE.u) ⟨e, q, k, id, rn, ys⟩ = none) := oneU_kind hk
    rw [decide_eq_false hk]
    clear hk
    go_wp2_with fail
    refine (mustFit_no _ (HX.out _ HB1.out).2.2.1).mono ?_
    rintro _ x2 ⟨⟨t, v, rfl⟩, rfl⟩
    go_wp2_with fail
    exact ⟨rfl, .inl ⟨HF.out, t, v, rfl⟩, (HX.out _ HB1.out).2.2.2.1.mono hbase⟩
  case pos =>
    rw [decide_eq_true hk]
    go_wp2_with fail
    refine (mustFit_yes _).mono ?_
    rintro _ w2 ⟨rfl, rfl⟩
    go_upto_region 3 with fail
    have HBx : Hid (∀ P : Past w2, Below w2.heap.size w2 P.world) := fun P => P.below
    have y0 : ∀ P : Past w2, P.world.cell? ⟨w.heap.size, 0, none⟩ = some (.int .i64 e) := fun P => (HX.out _ (HBx.out P)).2.2.2.2.1.cell 0 rfl
    have y1 : ∀ P : Past w2, P.world.cell? ⟨w.heap.size, 1, none⟩ = some (.int .i64 q) := fun P => (HX.out _ (HBx.out P)).2.2.2.2.1.cell 1 rfl
    have y2 : ∀ P : Past w2, P.world.cell? ⟨w.heap.size, 2, none⟩ = some (.int .i64 k) := fun P => (HX.out _ (HBx.out P)).2.2.2.2.1.cell 2 rfl
    have y3 : ∀ P : Past w2, P.world.cell? ⟨w.heap.size, 3, none⟩ = some (.string id) := fun P => (HX.out _ (HBx.out P)).2.2.2.2.1.cell 3 rfl
    have y4 : ∀ P : Past w2, P.world.cell? ⟨w.heap.size, 4, none⟩ = some (.int .i64 rn) := fun P => (HX.out _ (HBx.out P)).2.2.2.2.1.cell 4 rfl
    have y5 : ∀ P : Past w2, P.world.cell? ⟨w.heap.size, 5, none⟩ = some (.slice ra d ca) := fun P => (HX.out _ (HBx.out P)).2.2.2.2.1.cell 5 rfl
    have m1 : ∀ P : Past w2, P.world.cell? ⟨w.heap.size + 1, 1, none⟩ = some (.func (.func 24) #[] #[]) := fun P => (HX.out _ (HBx.out P)).2.2.2.2.2.1.cell 1 rfl
    have m2 : ∀ P : Past w2, P.world.cell? ⟨w.heap.size + 1, 2, none⟩ = some (.func (.func 25) #[] #[]) := fun P => (HX.out _ (HBx.out P)).2.2.2.2.2.1.cell 2 rfl
    have m3 : ∀ P : Past w2, P.world.cell? ⟨w.heap.size + 1, 3, none⟩ = some (.func (.func 26) #[] #[]) := fun P => (HX.out _ (HBx.out P)).2.2.2.2.2.1.cell 3 rfl
    have m4 : ∀ P : Past w2, P.world.cell? ⟨w.heap.size + 1, 4, none⟩ = some (.func (.func 27) #[] #[]) := fun P => (HX.out _ (HBx.out P)).2.2.2.2.2.1.cell 4 rfl
    have hne := past_some w2
    have hk4 : k = 1 ∨ k = 2 ∨ k = 3 ∨ k = 4 := by omega
    rcases hk4 with rfl | rfl | rfl | rfl
    · have HO1 : Hid (beginO (l.map UE.u) id rn = oneU (l.map UE.u) ⟨e, q, 1, id, rn, ys⟩) := one1 HA.out
      have eg : ∀ (args : Array Value) (w : World), Sem.run Tryd.prog (callFunc 24 args) w = .ok (.enter 24 args) w := enters_of Tryd.func24 (by kernel_rfl) rfl
      refine wp_region_past_tail 6 (by kernel_rfl) (by kernel_rfl) (fun ops HO => ?_)
      simp only [List.take_succ_cons, List.take_zero, List.drop_succ_cons, List.drop_zero]
      iterate 6 (quiet_step ((first | fail)))
      refine wpQuiet_nil ?_
      rintro _ ⟨z, rfl⟩
      have HB2 : Hid (Below w2.heap.size w2 z.world) := HBx.out z
      obtain ⟨W2, hW2⟩ : ∃ W2, z.world = W2 := ⟨_, rfl⟩
      rw [hW2] at HB2 ⊢
      clear hW2 z hne y0 y1 y2 y3 y4 y5 m1 m2 m3 m4
      have HC : Hid (Calls Tryd.prog 24 #[.pointer (some ⟨fb, 0, none⟩), .agg #[.int .i64 e, .int .i64 q, .int .i64 1, .string id, .int .i64 rn, .slice ra d ca]] W2 fun e w' => FoldAns W2 base fb (beginO (l.map UE.u) id rn) e w') := by
        have hx := HX.out _ HB2.out
        exact implBegin_any fb base a n c l e q 1 id rn ra d ca W2 hx.1 hx.2.1 HN.out hl hx.2.2.1 (Nat.le_trans hbase hx.2.2.2.1.size) hfb hn1
      go_wp2_with fail
      refine HC.out.mono ?_
      rintro ee w4 ⟨hans, hb4⟩
      have HBf : Hid (Below base w w4) := ((HX.out _ HB2.out).2.2.2.1.mono hbase).trans hb4
      rw [HO1.out] at hans
      rcases hans with ⟨hno, t, v, rfl⟩ | ⟨a', n', c', l', rfl, hmap, hlen, hbx, hrow⟩
      · go_wp2_with fail
        exact ⟨rfl, .inl ⟨hno, t, v, rfl⟩, HBf.out⟩
      · have HR : Hid (FoldAns w base fb (oneU (l.map UE.u) ⟨e, q, 1, id, rn, ys⟩) (.returned (.tuple #[])) w4) := ⟨.inr ⟨a', n', c', l', rfl, hmap, hlen, hbx, hrow⟩, HBf.out⟩
        clear hmap hlen hbx hrow HC
        go_wp2_with fail
        go_end0
        exact HR.out
    · have HO1 : Hid (growO (l.map UE.u) id rn ys = oneU (l.map UE.u) ⟨e, q, 2, id, rn, ys⟩) := one2 HA.out
      have eg : ∀ (args : Array Value) (w : World), Sem.run Tryd.prog (callFunc 25 args) w = .ok (.enter 25 args) w := enters_of Tryd.func25 (by kernel_rfl) rfl
      refine wp_region_past_tail 6 (by kernel_rfl) (by kernel_rfl) (fun ops HO => ?_)
      simp only [List.take_succ_cons, List.take_zero, List.drop_succ_cons, List.drop_zero]
      iterate 6 (quiet_step ((first | fail)))
      refine wpQuiet_nil ?_
      rintro _ ⟨z, rfl⟩
      have HB2 : Hid (Below w2.heap.size w2 z.world) := HBx.out z
      obtain ⟨W2, hW2⟩ : ∃ W2, z.world = W2 := ⟨_, rfl⟩
      rw [hW2] at HB2 ⊢
      clear hW2 z hne y0 y1 y2 y3 y4 y5 m1 m2 m3 m4
      have HC : Hid (Calls Tryd.prog 25 #[.pointer (some ⟨fb, 0, none⟩), .agg #[.int .i64 e, .int .i64 q, .int .i64 2, .string id, .int .i64 rn, .slice ra d ca]] W2 fun e w' => FoldAns W2 base fb (growO (l.map UE.u) id rn ys) e w') := by
        have hx := HX.out _ HB2.out
        exact implGrow_any fb base a n c l e q 2 id rn ra d ca W2 hx.1 hx.2.1 HN.out hl hx.2.2.1 (Nat.le_trans hbase hx.2.2.2.1.size) hfb ys hx.2.2.2.2.2.2 hd HFi.out HZl.out
      go_wp2_with fail
      refine HC.out.mono ?_
      rintro ee w4 ⟨hans, hb4⟩
      have HBf : Hid (Below base w w4) := ((HX.out _ HB2.out).2.2.2.1.mono hbase).trans hb4
      rw [HO1.out] at hans
      rcases hans with ⟨hno, t, v, rfl⟩ | ⟨a', n', c', l', rfl, hmap, hlen, hbx, hrow⟩
      · go_wp2_with fail
        exact ⟨rfl, .inl ⟨hno, t, v, rfl⟩, HBf.out⟩
      · have HR : Hid (FoldAns w base fb (oneU (l.map UE.u) ⟨e, q, 2, id, rn, ys⟩) (.returned (.tuple #[])) w4) := ⟨.inr ⟨a', n', c', l', rfl, hmap, hlen, hbx, hrow⟩, HBf.out⟩
        clear hmap hlen hbx hrow HC
        go_wp2_with fail
        go_end0
        exact HR.out
    · have HO1 : Hid (doneO (l.map UE.u) id = oneU (l.map UE.u) ⟨e, q, 3, id, rn, ys⟩) := one3 HA.out
      have eg : ∀ (args : Array Value) (w : World), Sem.run Tryd.prog (callFunc 26 args) w = .ok (.enter 26 args) w := enters_of Tryd.func26 (by kernel_rfl) rfl
      refine wp_region_past_tail 6 (by kernel_rfl) (by kernel_rfl) (fun ops HO => ?_)
      simp only [List.take_succ_cons, List.take_zero, List.drop_succ_cons, List.drop_zero]
      iterate 6 (quiet_step ((first | fail)))
      refine wpQuiet_nil ?_
      rintro _ ⟨z, rfl⟩
      have HB2 : Hid (Below w2.heap.size w2 z.world) := HBx.out z
      obtain ⟨W2, hW2⟩ : ∃ W2, z.world = W2 := ⟨_, rfl⟩
      rw [hW2] at HB2 ⊢
      clear hW2 z hne y0 y1 y2 y3 y4 y5 m1 m2 m3 m4
      have HC : Hid (Calls Tryd.prog 26 #[.pointer (some ⟨fb, 0, none⟩), .agg #[.int .i64 e, .int .i64 q, .int .i64 3, .string id, .int .i64 rn, .slice ra d ca]] W2 fun e w' => FoldAns W2 base fb (doneO (l.map UE.u) id) e w') := by
        have hx := HX.out _ HB2.out
        exact implFinish_any fb base a n c l e q 3 id rn ra d ca W2 hx.1 hx.2.1 HN.out hl hx.2.2.1 (Nat.le_trans hbase hx.2.2.2.1.size) hfb HZl.out
      go_wp2_with fail
      refine HC.out.mono ?_
      rintro ee w4 ⟨hans, hb4⟩
      have HBf : Hid (Below base w w4) := ((HX.out _ HB2.out).2.2.2.1.mono hbase).trans hb4
      rw [HO1.out] at hans
      rcases hans with ⟨hno, t, v, rfl⟩ | ⟨a', n', c', l', rfl, hmap, hlen, hbx, hrow⟩
      · go_wp2_with fail
        exact ⟨rfl, .inl ⟨hno, t, v, rfl⟩, HBf.out⟩
      · have HR : Hid (FoldAns w base fb (oneU (l.map UE.u) ⟨e, q, 3, id, rn, ys⟩) (.returned (.tuple #[])) w4) := ⟨.inr ⟨a', n', c', l', rfl, hmap, hlen, hbx, hrow⟩, HBf.out⟩
        clear hmap hlen hbx hrow HC
        go_wp2_with fail
        go_end0
        exact HR.out
    · have HO1 : Hid (dropO (l.map UE.u) id = oneU (l.map UE.u) ⟨e, q, 4, id, rn, ys⟩) := one4 HA.out
      have eg : ∀ (args : Array Value) (w : World), Sem.run Tryd.prog (callFunc 27 args) w = .ok (.enter 27 args) w := enters_of Tryd.func27 (by kernel_rfl) rfl
      refine wp_region_past_tail 6 (by kernel_rfl) (by kernel_rfl) (fun ops HO => ?_)
      simp only [List.take_succ_cons, List.take_zero, List.drop_succ_cons, List.drop_zero]
      iterate 6 (quiet_step ((first | fail)))
      refine wpQuiet_nil ?_
      rintro _ ⟨z, rfl⟩
      have HB2 : Hid (Below w2.heap.size w2 z.world) := HBx.out z
      obtain ⟨W2, hW2⟩ : ∃ W2, z.world = W2 := ⟨_, rfl⟩
      rw [hW2] at HB2 ⊢
      clear hW2 z hne y0 y1 y2 y3 y4 y5 m1 m2 m3 m4
      have HC : Hid (Calls Tryd.prog 27 #[.pointer (some ⟨fb, 0, none⟩), .agg #[.int .i64 e, .int .i64 q, .int .i64 4, .string id, .int .i64 rn, .slice ra d ca]] W2 fun e w' => FoldAns W2 base fb (dropO (l.map UE.u) id) e w') := by
        have hx := HX.out _ HB2.out
        exact implDrop_any fb base a n c l e q 4 id rn ra d ca W2 hx.1 hx.2.1 HN.out hl hx.2.2.1 (Nat.le_trans hbase hx.2.2.2.1.size) hfb hn1
      go_wp2_with fail
      refine HC.out.mono ?_
      rintro ee w4 ⟨hans, hb4⟩
      have HBf : Hid (Below base w w4) := ((HX.out _ HB2.out).2.2.2.1.mono hbase).trans hb4
      rw [HO1.out] at hans
      rcases hans with ⟨hno, t, v, rfl⟩ | ⟨a', n', c', l', rfl, hmap, hlen, hbx, hrow⟩
      · go_wp2_with fail
        exact ⟨rfl, .inl ⟨hno, t, v, rfl⟩, HBf.out⟩
      · have HR : Hid (FoldAns w base fb (oneU (l.map UE.u) ⟨e, q, 4, id, rn, ys⟩) (.returned (.tuple #[])) w4) := ⟨.inr ⟨a', n', c', l', rfl, hmap, hlen, hbx, hrow⟩, HBf.out⟩
        clear hmap hlen hbx hrow HC
        go_wp2_with fail
        go_end0
        exact HR.out

end Go.Proofs.YtogopmngbjkcjafDoor

namespace Go.Proofs.YtogopmngbjkcjafDoor
open Go.RowKit
set_option linter.unusedVariables false

/-- What records make by the program. -/
def foldP (rs : List R) : Option (List U) := rs.foldlM oneU []

theorem foldP_step (rs : List R) (k : Nat) (r : R) (h : rs[k]? = some r) : foldP (rs.take (k + 1)) = (foldP (rs.take k)).bind fun l => oneU l r := by
  rw [List.take_add_one, h, foldP, foldP, List.foldlM_append]
  simp [List.foldlM]

theorem foldP_stop (rs : List R) (k : Nat) (h : foldP (rs.take k) = none) : foldP rs = none := by
  have e : rs = rs.take k ++ rs.drop k := (List.take_append_drop k rs).symm
  rw [e, foldP, List.foldlM_append]
  rw [foldP] at h
  rw [h]
  rfl

/-- What fits fits behind a record too. -/
theorem oneU_fit {l l' : List U} {r : R} (hn : -9223372036854775808 ≤ r.n ∧ r.n ≤ 9223372036854775807) (h : oneU l r = some l') (hl : ∀ u ∈ l, UFit u) : ∀ u ∈ l', UFit u := by
  rw [oneU] at h
  split at h
  · split at h
    · injection h with h
      subst h
      intro u hu
      rcases List.mem_append.1 hu with h | h
      · exact hl u (List.mem_of_mem_take h)
      · rcases List.mem_cons.1 h with rfl | h
        · exact ⟨hn, .inr rfl⟩
        · exact hl u (List.mem_of_mem_drop h)
    · cases h
  · split at h
    · cases h
    · split at h
      · cases h
      · rename_i k _ x hx
        have hxl := hl x (List.mem_of_getElem? hx)
        split at h
        · split at h
          · cases h
          · rename_i hc
            injection h with h
            subst h
            intro u hu
            simp only [not_or] at hc
            rcases List.mem_or_eq_of_mem_set hu with h | rfl
            · exact hl u h
            · refine ⟨hxl.1, .inl ?_⟩
              simp only [List.length_append]
              have h1 : r.n = (x.zs.length : Int) := by omega
              omega
        · split at h
          · split at h
            · cases h
            · injection h with h
              subst h
              intro u hu
              rcases List.mem_or_eq_of_mem_set hu with h | rfl
              · exact hl u h
              · exact hxl
          · split at h
            · injection h with h
              subst h
              intro u hu
              exact hl u (List.mem_of_mem_eraseIdx hu)
            · cases h

theorem foldP_ok (rs : List R) : foldP rs = foldU rs := rfl

end Go.Proofs.YtogopmngbjkcjafDoor

namespace Go.Proofs.YtogopmngbjkcjafDoor
open Go.RowKit
set_option linter.unusedVariables false

/-- The deferred function, behind a panic: it is caught, nothing and false is answered. -/
theorem catch_pan (ub ob : Nat) (x y : Value) (u : TypeId) (pv : Value) (older : List PanicEntry) (w : World) (hu0 : w.cell? ⟨ub, 0, none⟩ = some x) (hu1 : w.frozen? ⟨ub, 0, none⟩ = false) (ho0 : w.cell? ⟨ob, 0, none⟩ = some y) (ho1 : w.frozen? ⟨ob, 0, none⟩ = false) (hne : ub ≠ ob) :
    CallsD Tryd.prog 14 #[.pointer (some ⟨ub, 0, none⟩), .pointer (some ⟨ob, 0, none⟩)] (.panicking ({ v := .iface u pv, recovered := false } :: older)) w fun e u' w' =>
      e = .returned (.tuple #[]) ∧ u' = .panicking ({ v := .iface u pv, recovered := true } :: older) ∧ w' = (w.setCell ⟨ub, 0, none⟩ (.slice none 0 0)).setCell ⟨ob, 0, none⟩ (.bool false) := by
  refine callsD_of_wpS Tryd.func14 rfl fun c₀ cs hu => ?_
  apply wpS_seq
  apply wpS_region
  simp [wpOpsS, go_sem, recoverD, hu, Tryd.ntmps14, Exit.thenS]
  refine wpS_cond (t := true) (by simp [Act.eval, Array.replicate]) ?_
  simp only [if_true]
  apply wpS_region
  simp [wpOpsS, go_sem, hu0, hu1, ho0, ho1, bodyPostS, results, Tryd.results14]

/-- .. where nothing panics. -/
theorem catch_idle (ub ob : Nat) (w : World) :
    CallsD Tryd.prog 14 #[.pointer (some ⟨ub, 0, none⟩), .pointer (some ⟨ob, 0, none⟩)] .returning w fun e u' w' => e = .returned (.tuple #[]) ∧ u' = .returning ∧ w' = w := by
  refine callsD_of_wpS Tryd.func14 rfl fun c₀ cs hu => ?_
  apply wpS_seq
  apply wpS_region
  simp [wpOpsS, go_sem, recoverD, hu, Tryd.ntmps14, Exit.thenS]
  refine wpS_cond (t := false) (by simp [Act.eval, Array.replicate]) ?_
  simp only [Bool.false_eq_true, if_false]
  refine wpS_of_wp (wp_skip ?_)
  cases c₀
  simp_all [bodyPostS, results, Tryd.results14]

set_option maxRecDepth 10000 in
set_option maxHeartbeats 1600000 in
theorem implFold_any (a : Option Addr) (n c lo : Nat) (rs : List RE) (B : Nat) (w : World) (h : RcRow w lo (.slice a n c) rs) (hn : n = rs.length) (hl : n ≤ 1099511627776) (hB : ∀ e ∈ rs, e.n ≤ B) (hnB : n * B ≤ 1099511627776) (hB2 : B ≤ 1099511627776) (hi : ∀ e ∈ rs, -9223372036854775808 ≤ e.r.n ∧ e.r.n ≤ 9223372036854775807) (he : ErrN w) :
    Calls Tryd.prog 6 #[.slice a n c] w fun e w' => (∃ x l', e = .returned (.tuple #[x, .bool (foldP (rs.map RE.r)).isSome]) ∧ UpRow w' w.heap.size x l' ∧ l'.map UE.u = (foldP (rs.map RE.r)).getD [] ∧ l'.length ≤ 10) ∧ Below w.heap.size w w' := by
  have hmf : ∀ (fn : Fn) (first cap : Array Value) (w : World), (Instr.makeFunc fn first cap).run Tryd.prog w = .ok (.func fn first cap) w := fun _ _ _ _ => rfl
  obtain ⟨w0, hw0⟩ : ∃ w0, (((w.alloc (.cells #[.slice none 0 0] 26)).alloc (.cells #[.bool false] 4)).alloc (.cells #[.slice none 0 0] 47)) = w0 := ⟨_, rfl⟩
  have HE : Hid ((((w.alloc (.cells #[.slice none 0 0] 26)).alloc (.cells #[.bool false] 4)).alloc (.cells #[.slice none 0 0] 47)) = w0) := hw0
  have HU : Hid (BoxN w0 w.heap.size 26 [.slice none 0 0]) := by show BoxN _ _ _ _; rw [← hw0]; exact ((BoxN.new _ _ _).alloc _).alloc _
  have HO : Hid (BoxN w0 (w.heap.size + 1) 4 [.bool false]) := by
    show BoxN _ _ _ _
    rw [← hw0]
    have := (BoxN.new (w.alloc (.cells #[.slice none 0 0] 26)) 4 [.bool false]).alloc (.cells #[.slice none 0 0] 47)
    rw [World.size_alloc] at this
    exact this
  have HF0 : Hid (BoxN w0 (w.heap.size + 1 + 1) 47 [.slice none 0 0]) := by
    show BoxN _ _ _ _
    rw [← hw0]
    have := BoxN.new ((w.alloc (.cells #[.slice none 0 0] 26)).alloc (.cells #[.bool false] 4)) 47 [.slice none 0 0]
    rw [World.size_alloc, World.size_alloc] at this
    exact this
  have HBw : Hid (Below w.heap.size w w0) := by show Below _ _ _; rw [← hw0]; exact (((Below.refl _ _).alloc (Nat.le_refl _) _).alloc (by simp) _).alloc (by simp; omega) _
  obtain ⟨fb, hfb⟩ : ∃ fb, w.heap.size + 1 + 1 = fb := ⟨_, rfl⟩
  have hfb1 : w.heap.size + 1 < fb := by omega
  have HfE : Hid (w.heap.size + 1 + 1 = fb) := hfb
  rw [hfb] at HF0
  have hfl : fb < w0.heap.size := HF0.out.lt
  have HX : Hid (∀ W, Below fb w0 W → RcRow W lo (.slice a n c) rs ∧ ErrN W ∧ Below w.heap.size w W ∧ BoxN W w.heap.size 26 [.slice none 0 0] ∧ BoxN W (w.heap.size + 1) 4 [.bool false]) := fun W hb => by
    have hb1 : Below w.heap.size w W := HBw.out.trans (hb.mono (by omega))
    exact ⟨h.stays hb1, he.below hb1, hb1, (hb.block _ (by omega)).trans HU.out, (hb.block _ (by omega)).trans HO.out⟩
  have HN : Hid (n = rs.length) := hn
  have HBs : Hid (∀ e ∈ rs, e.n ≤ B) := hB
  have HI : Hid (∀ e ∈ rs, -9223372036854775808 ≤ e.r.n ∧ e.r.n ≤ 9223372036854775807) := hi
  have HR0 : Hid (UpRow w0 fb (.slice none 0 0) []) := ⟨⟨rfl, .inl ⟨rfl, rfl⟩⟩, by simp, List.Pairwise.nil⟩
  clear hw0 h hn hB hi he HU HO hfb
  go_enter_defers Tryd.func6, Tryd.ntmps6
  go_wp2_with fail
  rw [HE.out]
  rw [HfE.out]
  clear HE
  go_loopw [11] (fun i wr => ∃ (k : Nat) (va : Option Addr) (vn vc : Nat) (l : List UE), k ≤ n ∧ i = .int .i64 (k : Int) ∧ vn = l.length ∧ l.length ≤ 10 ∧ Hid (BoxN wr fb 47 [.slice va vn vc]) ∧ Hid (UpRow wr fb (.slice va vn vc) l) ∧ Hid (foldP ((rs.map RE.r).take k) = some (l.map UE.u)) ∧ Hid (∀ u ∈ l.map UE.u, u.zs.length ≤ k * B) ∧ Hid (∀ x ∈ l.map UE.u, UFit x) ∧ Hid (Asc (l.map UE.u)) ∧ Hid (Below fb w0 wr)) (fun i _ => n - (intOf i).toNat)
  case atStart => exact ⟨0, none, 0, 0, [], Nat.zero_le _, rfl, rfl, Nat.zero_le _, HF0, HR0, rfl, (fun u hu => absurd hu (by simp)), (fun u hu => absurd hu (by simp)), List.Pairwise.nil, Below.refl _ _⟩
  case round =>
    clear HR0
    obtain ⟨k, va, vn, vc, l, hk, rfl, hvn, hl10, HF, HR, HP, HS, HUf, HA, HB⟩ := hrel
    have HVn : Hid (vn = l.length) := hvn
    have hvn10 : vn ≤ 10 := by omega
    have hsz : fb < wr.heap.size := HF.out.lt
    clear hvn
    by_cases hlt : k < n
    case neg =>
      obtain rfl : k = n := by omega
      have HEq : Hid (foldP (rs.map RE.r) = some (l.map UE.u)) := by show _ = _; rw [← HP.out, List.take_of_length_le (by rw [List.length_map, HN.out]; exact Nat.le_refl _)]
      have hx := HX.out _ HB.out
      have u0 := hx.2.2.2.1.cell 0 rfl
      have u1 := hx.2.2.2.1.frozen 0
      have o0 := hx.2.2.2.2.cell 0 rfl
      have o1 := hx.2.2.2.2.frozen 0
      have f0 := HF.out.cell 0 rfl
      have HRf : Hid (UpRow ((wr.setCell ⟨w.heap.size, 0, none⟩ (.slice va vn vc)).setCell ⟨w.heap.size + 1, 0, none⟩ (.bool true)) w.heap.size (.slice va vn vc) l) := by
        have h1 : UpRow (wr.setCell ⟨w.heap.size, 0, none⟩ (.slice va vn vc)) fb (.slice va vn vc) l := HR.out.setBox hx.2.2.2.1 (by decide) (by decide)
        exact (h1.setBox (hx.2.2.2.2.other (by omega) _) (by decide) (by decide)).low (by omega)
      have HBf : Hid (Below w.heap.size w ((wr.setCell ⟨w.heap.size, 0, none⟩ (.slice va vn vc)).setCell ⟨w.heap.size + 1, 0, none⟩ (.bool true))) := (hx.2.2.1.setCell (by exact Nat.le_refl _) _).setCell (by dsimp only; omega) _
      have HuO : Hid (BoxN (wr.setCell ⟨w.heap.size, 0, none⟩ (.slice va vn vc)) w.heap.size 26 [.slice va vn vc]) := hx.2.2.2.1.set 0 _
      have hO2 := hx.2.2.2.2
      clear HP HS HUf HA HB HR hx
      go_wp2_with fail
      refine leaves_cons (f := 14) (args := #[.pointer (some ⟨w.heap.size, 0, none⟩), .pointer (some ⟨w.heap.size + 1, 0, none⟩)]) (by simp) (by simp [go_sem]) ?_
      refine (catch_idle w.heap.size (w.heap.size + 1) _).mono ?_
      rintro e u' w'' ⟨rfl, rfl, rfl⟩
      obtain ⟨wf, hwf⟩ : ∃ wf, (wr.setCell ⟨w.heap.size, 0, none⟩ (.slice va vn vc)).setCell ⟨w.heap.size + 1, 0, none⟩ (.bool true) = wf := ⟨_, rfl⟩
      rw [hwf] at HRf HBf ⊢
      have cu : wf.cell? ⟨w.heap.size, 0, none⟩ = some (.slice va vn vc) := by rw [← hwf]; exact (HuO.out.other (by omega) _).cell 0 rfl
      have co : wf.cell? ⟨w.heap.size + 1, 0, none⟩ = some (.bool true) := by
        rw [← hwf]
        exact ((hO2.other (by omega) (.slice va vn vc)).set 0 (.bool true)).cell 0 rfl
      clear hwf
      simp [Leaves, settle, results, Tryd.results6, go_sem, cu, co]
      exact ⟨⟨_, ⟨rfl, by rw [HEq.out]; rfl⟩, l, HRf.out, by rw [HEq.out]; rfl, hl10⟩, HBf.out⟩
    have hkl : k < rs.length := by rw [← HN.out]; exact hlt
    have hki : (k : Int) < (n : Int) := by omega
    have hk0 : (0 : Int) ≤ (k : Int) := by omega
    have hkB : k * B ≤ 1099511627776 := Nat.le_trans (Nat.mul_le_mul_right _ hk) hnB
    obtain ⟨g, rfl, g0, g1, g2, g3, g4, g5, _⟩ := (HX.out _ HB.out).1.at HN.out hkl
    have HSg : Hid (∀ W, Below fb w0 W → Seg W (rs[k]).a (rs[k]).n (rs[k]).r.zs) := fun W hb => ((HX.out W hb).1.2.1 (rs[k]) (List.getElem_mem hkl)).seg
    have hen : (rs[k]).n ≤ B := HBs.out _ (List.getElem_mem hkl)
    have HIk : Hid (-9223372036854775808 ≤ (rs[k]).r.n ∧ (rs[k]).r.n ≤ 9223372036854775807) := HI.out _ (List.getElem_mem hkl)
    have HSt : Hid (foldP ((rs.map RE.r).take (k + 1)) = oneU (l.map UE.u) (rs[k]).r) := by
      show _ = _
      rw [foldP_step (rs.map RE.r) k (rs[k]).r (by rw [List.getElem?_map, List.getElem?_eq_getElem hkl]; rfl), HP.out]
      rfl
    have HSp : Hid (foldP ((rs.map RE.r).take (k + 1)) = none → foldP (rs.map RE.r) = none) := foldP_stop _ _
    generalize rs[k] = e at *
    have HZl : Hid (∀ x ∈ l, x.n ≤ 1099511627776) := fun x hx => by
      have h1 := (HR.out.2.1 x hx).seg.1
      have h2 := HS.out x.u (List.mem_map_of_mem hx)
      omega
    have HUl : Hid (∀ x ∈ l, UFit x.u) := fun x hx => HUf.out x.u (List.mem_map_of_mem hx)
    have hen2 : e.n ≤ 1099511627776 := by omega
    obtain ⟨w2, hw2⟩ : ∃ w2, wr.alloc (.cells #[.int .i64 e.r.e, .int .i64 e.r.q, .int .i64 e.r.k, .string e.r.id, .int .i64 e.r.n, .slice e.a e.n e.c] 43) = w2 := ⟨_, rfl⟩
    have HE2 : Hid (wr.alloc (.cells #[.int .i64 e.r.e, .int .i64 e.r.q, .int .i64 e.r.k, .string e.r.id, .int .i64 e.r.n, .slice e.a e.n e.c] 43) = w2) := hw2
    have hb2 : Below wr.heap.size wr w2 := by rw [← hw2]; exact (Below.refl _ _).alloc (Nat.le_refl _) _
    have hq2 : BoxN w2 wr.heap.size 43 [.int .i64 e.r.e, .int .i64 e.r.q, .int .i64 e.r.k, .string e.r.id, .int .i64 e.r.n, .slice e.a e.n e.c] := by rw [← hw2]; exact BoxN.new _ _ _
    have HB2 : Hid (Below fb w0 w2) := HB.out.trans (hb2.mono (by omega))
    have HF2 : Hid (BoxN w2 fb 47 [.slice va vn vc]) := HF.out.stays hb2
    have HR2 : Hid (UpRow w2 fb (.slice va vn vc) l) := HR.out.stays hb2
    have q0 := hq2.cell 0 rfl
    have q1 := hq2.cell 1 rfl
    have q2 := hq2.cell 2 rfl
    have q3 := hq2.cell 3 rfl
    have q4 := hq2.cell 4 rfl
    have q5 := hq2.cell 5 rfl
    have HC : Hid (Calls Tryd.prog 15 #[.pointer (some ⟨fb, 0, none⟩), .agg #[.int .i64 e.r.e, .int .i64 e.r.q, .int .i64 e.r.k, .string e.r.id, .int .i64 e.r.n, .slice e.a e.n e.c]] w2 fun ee w' => FoldAns w2 fb fb (oneU (l.map UE.u) e.r) ee w') :=
      implTake_any fb fb va vn vc l e.r.e e.r.q e.r.k e.r.id e.r.n e.a e.n e.c w2 HF2.out HR2.out HVn.out (by omega) (HX.out _ HB2.out).2.1 (by have := HF2.out.lt; omega) (Nat.le_refl _) e.r.zs (HSg.out _ HB2.out) hen2 HUl.out HZl.out (by omega) HA.out
    clear hw2 hb2 hq2 HP HF HR
    go_wp2_with fail
    rw [HE2.out]
    clear HE2 g0 g1 g2 g3 g4 g5
    go_wp2_with fail
    refine HC.out.mono ?_
    rintro ee w3 ⟨hans, hb3⟩
    have HB3 : Hid (Below fb w0 w3) := HB2.out.trans hb3
    clear hb3 HC q0 q1 q2 q3 q4 q5
    rcases hans with ⟨hno, t, v, rfl⟩ | ⟨a', n', c', l', rfl, hmap, hlen, hbx, hrow⟩
    · have HEq : Hid (foldP (rs.map RE.r) = none) := HSp.out (by rw [HSt.out]; exact hno)
      have hx := HX.out _ HB3.out
      have HuO : Hid (BoxN w3 w.heap.size 26 [.slice none 0 0]) := hx.2.2.2.1
      have HoO : Hid (BoxN w3 (w.heap.size + 1) 4 [.bool false]) := hx.2.2.2.2
      have HB4 : Hid (Below w.heap.size w w3) := hx.2.2.1
      clear hno hx HSt HSp
      go_wp2_with fail
      refine leaves_cons (f := 14) (args := #[.pointer (some ⟨w.heap.size, 0, none⟩), .pointer (some ⟨w.heap.size + 1, 0, none⟩)]) (by simp) (by simp [go_sem]) ?_
      refine (catch_pan w.heap.size (w.heap.size + 1) _ _ t v [] w3 (HuO.out.cell 0 rfl) (HuO.out.frozen 0) (HoO.out.cell 0 rfl) (HoO.out.frozen 0) (by omega)).mono ?_
      rintro e u' w'' ⟨rfl, rfl, rfl⟩
      obtain ⟨wf, hwf⟩ : ∃ wf, (w3.setCell ⟨w.heap.size, 0, none⟩ (.slice none 0 0)).setCell ⟨w.heap.size + 1, 0, none⟩ (.bool false) = wf := ⟨_, rfl⟩
      have cu : wf.cell? ⟨w.heap.size, 0, none⟩ = some (.slice none 0 0) := by rw [← hwf]; exact ((HuO.out.set 0 (.slice none 0 0)).other (by omega) _).cell 0 rfl
      have co : wf.cell? ⟨w.heap.size + 1, 0, none⟩ = some (.bool false) := by
        rw [← hwf]
        exact ((HoO.out.other (by omega) (.slice none 0 0)).set 0 (.bool false)).cell 0 rfl
      have HBf : Hid (Below w.heap.size w wf) := by
        show Below _ _ _
        rw [← hwf]
        exact (HB4.out.setCell (by exact Nat.le_refl _) _).setCell (by dsimp only; omega) _
      rw [hwf]
      clear hwf
      simp [Leaves, settle, results, Tryd.results6, go_sem, cu, co]
      exact ⟨⟨_, ⟨rfl, by rw [HEq.out]⟩, [], ⟨⟨rfl, .inl ⟨rfl, rfl⟩⟩, by simp, List.Pairwise.nil⟩, by rw [HEq.out]; rfl, Nat.zero_le _⟩, HBf.out⟩
    · have HF3 : Hid (BoxN w3 fb 47 [.slice a' n' c']) := hbx
      have HR3 : Hid (UpRow w3 fb (.slice a' n' c') l') := hrow
      have HP3 : Hid (foldP ((rs.map RE.r).take (k + 1)) = some (l'.map UE.u)) := by show _ = _; rw [HSt.out, hmap]
      have HS3 : Hid (∀ u ∈ l'.map UE.u, u.zs.length ≤ (k + 1) * B) := fun u hu => by
        have h1 := oneU_zs hmap HS.out u hu
        have h2 := (HSg.out _ HB2.out).1
        rw [Nat.add_mul, Nat.one_mul]
        omega
      have h10 : l'.length ≤ 10 := by
        have h1 := oneU_len hmap
        rw [List.length_map, List.length_map] at h1
        omega
      have HU3 : Hid (∀ x ∈ l'.map UE.u, UFit x) := oneU_fit HIk.out hmap HUf.out
      have HA3 : Hid (Asc (l'.map UE.u)) := oneU_asc HA.out hmap
      have HL3 : Hid (n' = l'.length) := hlen
      clear hmap hlen hbx hrow HSt HSp HS HUf HA
      go_wp2_with fail
      go_roundw
      case rel => exact ⟨k + 1, a', n', c', l', by omega, by go_num, HL3.out, h10, HF3, HR3, HP3, HS3, HU3, HA3, HB3⟩
      case measure => simp [intOf]; omega

end Go.Proofs.YtogopmngbjkcjafDoor
