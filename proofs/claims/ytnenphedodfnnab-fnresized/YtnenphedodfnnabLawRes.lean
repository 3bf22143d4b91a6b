/- The law on tables that are made smaller. -/
import Derived.Test.YtnenphedodfnnabDrawRes
import Derived.Test.YtnenphedodfnnabLawBig
import Derived.Test.YtnenphedodfnnabTimRes
import Derived.Test.YtnenphedodfnnabTabOk
import Derived.Lib.Strings
import Derived.Deep.RegionHeld3
import Derived.Deep.Cut
namespace Go.Proofs.Ytnenphedodfnnab
open Go.RowKit
set_option linter.unusedVariables false

set_option maxHeartbeats 800000 in
theorem sameFields_same (a b : Option Addr) (len ca cb : Nat) (xs : List Fld) (w : World) (hx : Flds w a len xs) (hy : Flds w b len xs) (hl : len ≤ 2097152) :
    Calls Try.prog 22 #[.slice a len ca, .slice b len cb] w fun e w' => e = .returned (.bool true) ∧ Below w.heap.size w w' := by
  have HX : Hid (Flds w a len xs) := hx
  have HY : Hid (Flds w b len xs) := hy
  clear hx hy
  have hne : ((len : Int) != (len : Int)) = false := by simp
  go_enter Try.func22, Try.ntmps22
  go_wp2
  go_loopw [5] (fun i wr => ∃ k : Nat, k ≤ len ∧ i = .int .i64 k ∧ Hid (Below w.heap.size w wr)) (fun i _ => len - (intOf i).toNat)
  case atStart => exact ⟨0, Nat.zero_le _, rfl, Below.refl _ _⟩
  case round =>
    obtain ⟨k, hk, rfl, HW⟩ := hrel
    by_cases hlt : k < len
    · obtain ⟨ba, oa, x, y, rfl, hba, hfa, ha0, ha1⟩ := HX.out.at hlt
      obtain ⟨bb, ob, x', y', rfl, hbb, hfb, hb0, hb1⟩ := HY.out.at hlt
      obtain ⟨rfl, rfl⟩ : x = x' ∧ y = y' := by rw [hfa] at hfb; simpa using hfb
      have ga0 : wr.cell? ⟨ba, oa + k * 2, none⟩ = some (.string x) := (HW.out.cell (p := ⟨ba, _, none⟩) hba).trans ha0
      have ga1 : wr.cell? ⟨ba, oa + k * 2 + 1, none⟩ = some (.string y) := (HW.out.cell (p := ⟨ba, _, none⟩) hba).trans ha1
      have gb0 : wr.cell? ⟨bb, ob + k * 2, none⟩ = some (.string x) := (HW.out.cell (p := ⟨bb, _, none⟩) hbb).trans hb0
      have gb1 : wr.cell? ⟨bb, ob + k * 2 + 1, none⟩ = some (.string y) := (HW.out.cell (p := ⟨bb, _, none⟩) hbb).trans hb1
      clear hfa hfb ha0 ha1 hb0 hb1
      have hki : (k : Int) < (len : Int) := by omega
      have hk0 : (0 : Int) ≤ (k : Int) := by omega
      go_wp2_with fail
      go_region
      all_goals
        have HB3 : Hid (Below w.heap.size w wr.drew) := HW.out.drew
        go_wp2
        go_roundw
        case rel => exact ⟨k + 1, by omega, by go_num, HB3⟩
        case measure => simp [intOf]; omega
    · go_wp2
      go_ret
      exact ⟨rfl, HW.out⟩

set_option maxRecDepth 10000 in
set_option maxHeartbeats 3200000 in
theorem lawRes_any (a : Option Addr) (len cap : Nat) (zs : List Int) (w : World) (hm : len ≤ maxLen) (hs : Seg w a len zs) :
    Calls Try.prog 7 #[.slice a len cap] w fun e w' => e = .returned (.bool true) ∧ Below w.heap.size w w' := by
  have HS : Hid (Seg w a len zs) := hs
  clear hs
  go_enter Try.func7, Try.ntmps7
  go_wp2_with fail
  refine (big_any a len cap _ hm).mono ?_
  rintro e w1 ⟨rfl, rfl⟩
  by_cases hbig : (1048576 : Int) < (len : Int)
  · go_wp2_with fail
    go_ret
    exact ⟨rfl, Below.refl _ _⟩
  go_wp2_with fail
  refine (drawRes_any a len cap zs _ HS.out (by omega)).mono ?_
  rintro e w2 ⟨m, i, av, n, cv, xs, rfl, ⟨hn, hfb, hi0, hi1⟩, ho2, hb2⟩
  have HO2 : Hid (OwnF w2 w1.heap.size (.slice av n cv) n xs) := ho2
  have HB2 : Hid (Below w1.heap.size w1 w2) := hb2
  clear ho2 hb2
  go_wp2_with fail
  obtain ⟨w3, hw3⟩ : ∃ w3, w2.alloc (.cells #[.int .i64 m, .slice av n cv] 34) = w3 := ⟨_, rfl⟩
  have hb23 : Below w2.heap.size w2 w3 := by rw [← hw3]; exact (Below.refl _ _).alloc (Nat.le_refl _) _
  have HT3 : Hid (Box2 w3 w2.heap.size 34 (.int .i64 m) (.slice av n cv)) := by show Box2 _ _ _ _ _; rw [← hw3]; exact Box2.new _ _ _ _
  have HO3 : Hid (OwnF w3 w1.heap.size (.slice av n cv) n xs) := HO2.out.stays hb23
  have HB3 : Hid (Below w1.heap.size w1 w3) := HB2.out.trans (hb23.mono HB2.out.size)
  rw [hw3]
  clear hw3 hb23 HO2 HB2
  generalize w2.heap.size = tb at *
  refine (implRes_any m i av n cv xs w3 HO3.out.flds (by omega)).mono ?_
  rintro e w4 ⟨v4, m4, k, ys, rfl, hcut, ho4, hb4⟩
  obtain ⟨a4, c4, rfl⟩ := ho4.shape
  have HT4 : Hid (Box2 w4 tb 34 (.int .i64 m) (.slice av n cv)) := HT3.out.stays hb4
  have HO4 : Hid (OwnF w4 w1.heap.size (.slice av n cv) n xs) := HO3.out.stays hb4
  have HX4 : Hid (OwnF w4 w3.heap.size (.slice a4 k c4) k ys) := ho4
  have HB4 : Hid (Below w1.heap.size w1 w4) := HB3.out.trans (hb4.mono HB3.out.size)
  have HCut : Hid (CutAns m i xs m4 ys) := hcut
  clear hb4 ho4 hcut HT3 HO3 HB3
  obtain ⟨c0, c1, _, _⟩ := (HT4.out.alloc (.cells #[.int .i64 m4, .slice a4 k c4] 34)).cells
  obtain ⟨d0, d1, _, _⟩ := HT4.out.cells
  have htb : tb < w4.heap.size := HT4.out.lt
  have htb1 : ¬ tb = w4.heap.size := by omega
  have htb2 : ¬ w4.heap.size = tb := by omega
  go_wp2_with fail
  obtain ⟨w5, hw5⟩ : ∃ w5, w4.alloc (.cells #[.int .i64 m4, .slice a4 k c4] 34) = w5 := ⟨_, rfl⟩
  have hb45 : Below w4.heap.size w4 w5 := by rw [← hw5]; exact (Below.refl _ _).alloc (Nat.le_refl _) _
  have HV5 : Hid (Box2 w5 w4.heap.size 34 (.int .i64 m4) (.slice a4 k c4)) := by show Box2 _ _ _ _ _; rw [← hw5]; exact Box2.new _ _ _ _
  rw [hw5]
  clear hw5 c0 c1 d0 d1
  have HT5 : Hid (Box2 w5 tb 34 (.int .i64 m) (.slice av n cv)) := HT4.out.stays hb45
  have HO5 : Hid (OwnF w5 w1.heap.size (.slice av n cv) n xs) := HO4.out.stays hb45
  have HX5 : Hid (OwnF w5 w3.heap.size (.slice a4 k c4) k ys) := HX4.out.stays hb45
  have HB5 : Hid (Below w1.heap.size w1 w5) := HB4.out.trans (hb45.mono HB4.out.size)
  clear hb45 HT4 HO4 HX4 HB4 htb htb1 htb2
  generalize w4.heap.size = xb at *
  refine (specOk_any m av n cv xs w5 HO5.out.flds (by omega)).mono ?_
  rintro e w6 ⟨rfl, hb6⟩
  have HAll : Hid (∀ W, Below w6.heap.size w6 W → Box2 W tb 34 (.int .i64 m) (.slice av n cv) ∧ Box2 W xb 34 (.int .i64 m4) (.slice a4 k c4) ∧ OwnF W w1.heap.size (.slice av n cv) n xs ∧ OwnF W w3.heap.size (.slice a4 k c4) k ys ∧ Below w1.heap.size w1 W) := by
    intro W hW
    have hb := hb6.trans (hW.mono hb6.size)
    exact ⟨HT5.out.stays hb, HV5.out.stays hb, HO5.out.stays hb, HX5.out.stays hb, HB5.out.trans (hb.mono HB5.out.size)⟩
  have hkl := HX5.out.len
  have hnl := HO5.out.len
  clear hb6 HT5 HV5 HO5 HX5 HB5
  by_cases hin : okT m xs = true ∧ 0 ≤ i ∧ i ≤ 4096
  · have hin0 := hin.1
    obtain ⟨rfl, q, hfit, rfl⟩ : m4 = i ∧ ∃ q, FitN i.toNat xs q ∧ ys = xs.take q := by
      rcases HCut.out with ⟨_, h1, h2⟩ | ⟨h1, _⟩
      · exact ⟨h1, h2⟩
      · exact absurd hin h1
    obtain rfl : q = k := by rw [List.length_take] at hkl; have := hfit.1; omega
    rw [hin0]
    obtain ⟨f1, f2, f3⟩ := hfit
    have hok : okT m4 (xs.take q) = true := by
      unfold okT
      rw [decide_eq_true_eq]
      omega
    have hqn : q ≤ n := by omega
    have HOk : Hid (∀ W : World, Below w6.heap.size w6 W → Calls Try.prog 21 #[.agg #[.int .i64 m4, .slice a4 q c4]] W fun e w' => e = .returned (.bool true) ∧ Below W.heap.size W w') := by
      intro W hW
      have h1 := fldBytes_take xs q
      have := implOk_any m4 a4 q c4 (xs.take q) W (HAll.out W hW).2.2.2.1.flds (by omega)
      rwa [hok] at this
    have HSm : Hid (∀ W : World, Below w6.heap.size w6 W → Calls Try.prog 22 #[.slice a4 q c4, .slice av q cv] W fun e w' => e = .returned (.bool true) ∧ Below W.heap.size W w') := fun W hW => sameFields_same _ _ _ _ _ (xs.take q) _ (HAll.out W hW).2.2.2.1.flds ((HAll.out W hW).2.2.1.flds.take q hqn) (by omega)
    have hm40 : ¬ m4 < 0 := by omega
    have hm41 : ¬ 4096 < m4 := by omega
    obtain ⟨p0, p1, _, _⟩ := (HAll.out _ (Below.refl _ _)).1.cells
    obtain ⟨q0, q1, _, _⟩ := (HAll.out _ (Below.refl _ _)).2.1.cells
    have hmm : (m4 != m4) = false := by simp
    have hqi : ¬ (n : Int) < (q : Int) := by omega
    have hqc : (q : Int) ≤ (cv : Int) := by have := own_cap (HAll.out _ (Below.refl _ _)).2.2.1.1; omega
    go_upto_region 7 with fail
    go_cut [69] from 7 (fun v69 W => v69 = .bool false ∧ Hid (Below w6.heap.size w6 W))
    case first =>
      have hq7 : q ≤ 7 := by omega
      clear f2 f3 hin hok hin0 hqi hbig hn hfb hi0 hi1 hm40 hm41
      obtain ⟨d, rfl⟩ : ∃ d, n = d + q := ⟨n - q, by omega⟩
      have hq8 : q = 0 ∨ q = 1 ∨ q = 2 ∨ q = 3 ∨ q = 4 ∨ q = 5 ∨ q = 6 ∨ q = 7 := by omega
      clear f1 hkl hnl hqn hq7
      rcases hq8 with rfl | rfl | rfl | rfl | rfl | rfl | rfl | rfl
      · have hcK : (0 : Int) ≤ (cv : Int) := by omega
        go_region_held3 (fun W => W.cell? ⟨tb, 1, none⟩ = some (.slice av (d + 0) cv) ∧ W.cell? ⟨xb, 0, none⟩ = some (.int .i64 m4) ∧ W.cell? ⟨xb, 1, none⟩ = some (.slice a4 0 c4)) (refine ⟨?_, ?_, ?_⟩ <;> assumption) (first
          | (go_at_call 21; refine (HOk.out _ (Below.refl _ _).drew).mono ?_; rintro e y1 ⟨rfl, hb1⟩; have hb1' : Below w6.heap.size w6 y1 := (Below.refl w6.heap.size w6).drew.trans (hb1.mono (Nat.le_refl _)); obtain ⟨s0, s1, _, _⟩ := (HAll.out _ hb1').1.cells; obtain ⟨t0, t1, _, _⟩ := (HAll.out _ hb1').2.1.cells)
          | (go_at_call 22; refine (HSm.out _ hb1').mono ?_; rintro e y2 ⟨rfl, hb2⟩; have hb2' : Below w6.heap.size w6 y2 := hb1'.trans (hb2.mono hb1'.size); obtain ⟨s0', s1', _, _⟩ := (HAll.out _ hb2').1.cells; obtain ⟨t0', t1', _, _⟩ := (HAll.out _ hb2').2.1.cells))
        all_goals
          have HB2 : Hid (Below w6.heap.size w6 y2) := hb2'
          clear hb1 hb1' hb2 hb2' s0 s1 t0 t1 s0' s1' t0' t1'
          go_wp2_with fail
          go_meet
          exact ⟨rfl, HB2⟩
      · have hcK : (1 : Int) ≤ (cv : Int) := by omega
        go_region_held3 (fun W => W.cell? ⟨tb, 1, none⟩ = some (.slice av (d + 1) cv) ∧ W.cell? ⟨xb, 0, none⟩ = some (.int .i64 m4) ∧ W.cell? ⟨xb, 1, none⟩ = some (.slice a4 1 c4)) (refine ⟨?_, ?_, ?_⟩ <;> assumption) (first
          | (go_at_call 21; refine (HOk.out _ (Below.refl _ _).drew).mono ?_; rintro e y1 ⟨rfl, hb1⟩; have hb1' : Below w6.heap.size w6 y1 := (Below.refl w6.heap.size w6).drew.trans (hb1.mono (Nat.le_refl _)); obtain ⟨s0, s1, _, _⟩ := (HAll.out _ hb1').1.cells; obtain ⟨t0, t1, _, _⟩ := (HAll.out _ hb1').2.1.cells)
          | (go_at_call 22; refine (HSm.out _ hb1').mono ?_; rintro e y2 ⟨rfl, hb2⟩; have hb2' : Below w6.heap.size w6 y2 := hb1'.trans (hb2.mono hb1'.size); obtain ⟨s0', s1', _, _⟩ := (HAll.out _ hb2').1.cells; obtain ⟨t0', t1', _, _⟩ := (HAll.out _ hb2').2.1.cells))
        all_goals
          have HB2 : Hid (Below w6.heap.size w6 y2) := hb2'
          clear hb1 hb1' hb2 hb2' s0 s1 t0 t1 s0' s1' t0' t1'
          go_wp2_with fail
          go_meet
          exact ⟨rfl, HB2⟩
      · have hcK : (2 : Int) ≤ (cv : Int) := by omega
        go_region_held3 (fun W => W.cell? ⟨tb, 1, none⟩ = some (.slice av (d + 2) cv) ∧ W.cell? ⟨xb, 0, none⟩ = some (.int .i64 m4) ∧ W.cell? ⟨xb, 1, none⟩ = some (.slice a4 2 c4)) (refine ⟨?_, ?_, ?_⟩ <;> assumption) (first
          | (go_at_call 21; refine (HOk.out _ (Below.refl _ _).drew).mono ?_; rintro e y1 ⟨rfl, hb1⟩; have hb1' : Below w6.heap.size w6 y1 := (Below.refl w6.heap.size w6).drew.trans (hb1.mono (Nat.le_refl _)); obtain ⟨s0, s1, _, _⟩ := (HAll.out _ hb1').1.cells; obtain ⟨t0, t1, _, _⟩ := (HAll.out _ hb1').2.1.cells)
          | (go_at_call 22; refine (HSm.out _ hb1').mono ?_; rintro e y2 ⟨rfl, hb2⟩; have hb2' : Below w6.heap.size w6 y2 := hb1'.trans (hb2.mono hb1'.size); obtain ⟨s0', s1', _, _⟩ := (HAll.out _ hb2').1.cells; obtain ⟨t0', t1', _, _⟩ := (HAll.out _ hb2').2.1.cells))
        all_goals
          have HB2 : Hid (Below w6.heap.size w6 y2) := hb2'
          clear hb1 hb1' hb2 hb2' s0 s1 t0 t1 s0' s1' t0' t1'
          go_wp2_with fail
          go_meet
          exact ⟨rfl, HB2⟩
      · have hcK : (3 : Int) ≤ (cv : Int) := by omega
        go_region_held3 (fun W => W.cell? ⟨tb, 1, none⟩ = some (.slice av (d + 3) cv) ∧ W.cell? ⟨xb, 0, none⟩ = some (.int .i64 m4) ∧ W.cell? ⟨xb, 1, none⟩ = some (.slice a4 3 c4)) (refine ⟨?_, ?_, ?_⟩ <;> assumption) (first
          | (go_at_call 21; refine (HOk.out _ (Below.refl _ _).drew).mono ?_; rintro e y1 ⟨rfl, hb1⟩; have hb1' : Below w6.heap.size w6 y1 := (Below.refl w6.heap.size w6).drew.trans (hb1.mono (Nat.le_refl _)); obtain ⟨s0, s1, _, _⟩ := (HAll.out _ hb1').1.cells; obtain ⟨t0, t1, _, _⟩ := (HAll.out _ hb1').2.1.cells)
          | (go_at_call 22; refine (HSm.out _ hb1').mono ?_; rintro e y2 ⟨rfl, hb2⟩; have hb2' : Below w6.heap.size w6 y2 := hb1'.trans (hb2.mono hb1'.size); obtain ⟨s0', s1', _, _⟩ := (HAll.out _ hb2').1.cells; obtain ⟨t0', t1', _, _⟩ := (HAll.out _ hb2').2.1.cells))
        all_goals
          have HB2 : Hid (Below w6.heap.size w6 y2) := hb2'
          clear hb1 hb1' hb2 hb2' s0 s1 t0 t1 s0' s1' t0' t1'
          go_wp2_with fail
          go_meet
          exact ⟨rfl, HB2⟩
      · have hcK : (4 : Int) ≤ (cv : Int) := by omega
        go_region_held3 (fun W => W.cell? ⟨tb, 1, none⟩ = some (.slice av (d + 4) cv) ∧ W.cell? ⟨xb, 0, none⟩ = some (.int .i64 m4) ∧ W.cell? ⟨xb, 1, none⟩ = some (.slice a4 4 c4)) (refine ⟨?_, ?_, ?_⟩ <;> assumption) (first
          | (go_at_call 21; refine (HOk.out _ (Below.refl _ _).drew).mono ?_; rintro e y1 ⟨rfl, hb1⟩; have hb1' : Below w6.heap.size w6 y1 := (Below.refl w6.heap.size w6).drew.trans (hb1.mono (Nat.le_refl _)); obtain ⟨s0, s1, _, _⟩ := (HAll.out _ hb1').1.cells; obtain ⟨t0, t1, _, _⟩ := (HAll.out _ hb1').2.1.cells)
          | (go_at_call 22; refine (HSm.out _ hb1').mono ?_; rintro e y2 ⟨rfl, hb2⟩; have hb2' : Below w6.heap.size w6 y2 := hb1'.trans (hb2.mono hb1'.size); obtain ⟨s0', s1', _, _⟩ := (HAll.out _ hb2').1.cells; obtain ⟨t0', t1', _, _⟩ := (HAll.out _ hb2').2.1.cells))
        all_goals
          have HB2 : Hid (Below w6.heap.size w6 y2) := hb2'
          clear hb1 hb1' hb2 hb2' s0 s1 t0 t1 s0' s1' t0' t1'
          go_wp2_with fail
          go_meet
          exact ⟨rfl, HB2⟩
      · have hcK : (5 : Int) ≤ (cv : Int) := by omega
        go_region_held3 (fun W => W.cell? ⟨tb, 1, none⟩ = some (.slice av (d + 5) cv) ∧ W.cell? ⟨xb, 0, none⟩ = some (.int .i64 m4) ∧ W.cell? ⟨xb, 1, none⟩ = some (.slice a4 5 c4)) (refine ⟨?_, ?_, ?_⟩ <;> assumption) (first
          | (go_at_call 21; refine (HOk.out _ (Below.refl _ _).drew).mono ?_; rintro e y1 ⟨rfl, hb1⟩; have hb1' : Below w6.heap.size w6 y1 := (Below.refl w6.heap.size w6).drew.trans (hb1.mono (Nat.le_refl _)); obtain ⟨s0, s1, _, _⟩ := (HAll.out _ hb1').1.cells; obtain ⟨t0, t1, _, _⟩ := (HAll.out _ hb1').2.1.cells)
          | (go_at_call 22; refine (HSm.out _ hb1').mono ?_; rintro e y2 ⟨rfl, hb2⟩; have hb2' : Below w6.heap.size w6 y2 := hb1'.trans (hb2.mono hb1'.size); obtain ⟨s0', s1', _, _⟩ := (HAll.out _ hb2').1.cells; obtain ⟨t0', t1', _, _⟩ := (HAll.out _ hb2').2.1.cells))
        all_goals
          have HB2 : Hid (Below w6.heap.size w6 y2) := hb2'
          clear hb1 hb1' hb2 hb2' s0 s1 t0 t1 s0' s1' t0' t1'
          go_wp2_with fail
          go_meet
          exact ⟨rfl, HB2⟩
      · have hcK : (6 : Int) ≤ (cv : Int) := by omega
        go_region_held3 (fun W => W.cell? ⟨tb, 1, none⟩ = some (.slice av (d + 6) cv) ∧ W.cell? ⟨xb, 0, none⟩ = some (.int .i64 m4) ∧ W.cell? ⟨xb, 1, none⟩ = some (.slice a4 6 c4)) (refine ⟨?_, ?_, ?_⟩ <;> assumption) (first
          | (go_at_call 21; refine (HOk.out _ (Below.refl _ _).drew).mono ?_; rintro e y1 ⟨rfl, hb1⟩; have hb1' : Below w6.heap.size w6 y1 := (Below.refl w6.heap.size w6).drew.trans (hb1.mono (Nat.le_refl _)); obtain ⟨s0, s1, _, _⟩ := (HAll.out _ hb1').1.cells; obtain ⟨t0, t1, _, _⟩ := (HAll.out _ hb1').2.1.cells)
          | (go_at_call 22; refine (HSm.out _ hb1').mono ?_; rintro e y2 ⟨rfl, hb2⟩; have hb2' : Below w6.heap.size w6 y2 := hb1'.trans (hb2.mono hb1'.size); obtain ⟨s0', s1', _, _⟩ := (HAll.out _ hb2').1.cells; obtain ⟨t0', t1', _, _⟩ := (HAll.out _ hb2').2.1.cells))
        all_goals
          have HB2 : Hid (Below w6.heap.size w6 y2) := hb2'
          clear hb1 hb1' hb2 hb2' s0 s1 t0 t1 s0' s1' t0' t1'
          go_wp2_with fail
          go_meet
          exact ⟨rfl, HB2⟩
      · have hcK : (7 : Int) ≤ (cv : Int) := by omega
        go_region_held3 (fun W => W.cell? ⟨tb, 1, none⟩ = some (.slice av (d + 7) cv) ∧ W.cell? ⟨xb, 0, none⟩ = some (.int .i64 m4) ∧ W.cell? ⟨xb, 1, none⟩ = some (.slice a4 7 c4)) (refine ⟨?_, ?_, ?_⟩ <;> assumption) (first
          | (go_at_call 21; refine (HOk.out _ (Below.refl _ _).drew).mono ?_; rintro e y1 ⟨rfl, hb1⟩; have hb1' : Below w6.heap.size w6 y1 := (Below.refl w6.heap.size w6).drew.trans (hb1.mono (Nat.le_refl _)); obtain ⟨s0, s1, _, _⟩ := (HAll.out _ hb1').1.cells; obtain ⟨t0, t1, _, _⟩ := (HAll.out _ hb1').2.1.cells)
          | (go_at_call 22; refine (HSm.out _ hb1').mono ?_; rintro e y2 ⟨rfl, hb2⟩; have hb2' : Below w6.heap.size w6 y2 := hb1'.trans (hb2.mono hb1'.size); obtain ⟨s0', s1', _, _⟩ := (HAll.out _ hb2').1.cells; obtain ⟨t0', t1', _, _⟩ := (HAll.out _ hb2').2.1.cells))
        all_goals
          have HB2 : Hid (Below w6.heap.size w6 y2) := hb2'
          clear hb1 hb1' hb2 hb2' s0 s1 t0 t1 s0' s1' t0' t1'
          go_wp2_with fail
          go_meet
          exact ⟨rfl, HB2⟩
    case rest =>
    obtain ⟨rfl, HB2⟩ := hcut
    have HB2w : Hid (Below w1.heap.size w1 wc) := (HAll.out _ HB2.out).2.2.2.2
    clear p0 p1 q0 q1
    obtain ⟨s0, s1, _, _⟩ := (HAll.out _ HB2.out).1.cells
    obtain ⟨t0, t1, _, _⟩ := (HAll.out _ HB2.out).2.1.cells
    by_cases hlt : q < n
    · have hlti : (q : Int) < (n : Int) := by omega
      obtain ⟨ba, oa, x, y, rfl, hba, hfx, ha0, ha1⟩ := (HAll.out _ HB2.out).2.2.1.flds.at hlt
      have hst := szL_take_step xs q (by omega)
      have hexy : xs[q]'(by omega) = (x, y) := by rw [List.getElem?_eq_getElem (by omega)] at hfx; injection hfx
      rw [hexy] at hst
      dsimp only at hst
      have hszq : szL (xs.take q) = 32 * q + fldBytes (xs.take q) := by unfold szL; rw [List.length_take]; congr 2; omega
      have HSz : Hid (∀ W : World, Below w6.heap.size w6 W → Calls Try.prog 23 #[.agg #[.int .i64 m4, .slice a4 q c4]] W fun e w' => e = .returned (.int .i64 (szL (xs.take q) : Int)) ∧ Below W.heap.size W w') := by
        intro W hW
        have h1 := fldBytes_take xs q
        have h := implSize_any m4 a4 q c4 (xs.take q) W (HAll.out W hW).2.2.2.1.flds (by omega)
        rw [hszq]
        simpa using h
      have hgt : m4 < (szL (xs.take q) : Int) + (x.size : Int) + (y.size : Int) + 32 := by
        rcases f3 with f3 | f3
        · omega
        · omega
      have hzb : (szL (xs.take q) : Int) ≤ 4096 := by omega
      have hxb : x.size + y.size ≤ 560 := by
        have h1 := fldBytes_step xs q x y hfx
        have h2 := fldBytes_take xs (q + 1)
        omega
      have hxbi : (x.size : Int) + (y.size : Int) ≤ 560 := by omega
      clear hexy hst hszq f2 f3 hfx
      have hsz0 : 0 ≤ (szL (xs.take q) : Int) := by omega
      generalize (szL (xs.take q) : Int) = sz at *
      go_wp2_with fail
      obtain ⟨v3, hv3⟩ : ∃ v3, wc.alloc (.cells #[.string x, .string y] 36) = v3 := ⟨_, rfl⟩
      have hbv : Below wc.heap.size wc v3 := by rw [← hv3]; exact (Below.refl _ _).alloc (Nat.le_refl _) _
      have hbf : Box2 v3 wc.heap.size 36 (.string x) (.string y) := by rw [← hv3]; exact Box2.new _ _ _ _
      have HB3 : Hid (Below w6.heap.size w6 v3) := HB2.out.trans (hbv.mono HB2.out.size)
      have HBf : Hid (∀ W, Below v3.heap.size v3 W → Box2 W wc.heap.size 36 (.string x) (.string y)) := fun W h => hbf.stays h
      rw [hv3]
      clear hv3 hbv s0 s1 t0 t1
      obtain ⟨b0, b1, _, _⟩ := hbf.cells
      obtain ⟨t0, t1, _, _⟩ := (HAll.out _ HB3.out).2.1.cells
      clear hbf
      generalize wc.heap.size = fb at *
      go_region_held3 (fun W => W.cell? ⟨xb, 0, none⟩ = some (.int .i64 m4) ∧ W.cell? ⟨xb, 1, none⟩ = some (.slice a4 q c4) ∧ W.cell? ⟨fb, 0, none⟩ = some (.string x) ∧ W.cell? ⟨fb, 1, none⟩ = some (.string y)) (refine ⟨?_, ?_, ?_, ?_⟩ <;> assumption) (first
        | (go_at_call 23; refine (HSz.out _ HB3.out.drew).mono ?_; rintro e y1 ⟨rfl, hb1⟩; have hb1v : Below v3.heap.size v3 y1 := (Below.refl v3.heap.size v3).drew.trans (hb1.mono (Nat.le_refl _)); have hb1' : Below w6.heap.size w6 y1 := HB3.out.trans (hb1v.mono HB3.out.size); obtain ⟨u0, u1, _, _⟩ := (HAll.out _ hb1').2.1.cells; obtain ⟨z0, z1, _, _⟩ := (HBf.out _ hb1v).cells))
      all_goals
        have HBy : Hid (Below w1.heap.size w1 y1) := (HAll.out _ hb1').2.2.2.2
        clear hb1 hb1' hb1v u0 u1 z0 z1 b0 b1 t0 t1
        go_wp2_with fail
        go_ret
        refine ⟨ret_bool ?_, HBy.out⟩
        have hwr : ∀ z : Int, 0 ≤ z → z ≤ 100000 → IntKind.i64.wrap z = z := fun z h1 h2 => by simp [IntKind.wrap, go_sem]; omega
        rw [hwr (sz + (x.size : Int)) (by omega) (by omega), hwr (sz + (x.size : Int) + (y.size : Int)) (by omega) (by omega), hwr (sz + (x.size : Int) + (y.size : Int) + 32) (by omega) (by omega)]
        exact decide_eq_true (by omega)
    · have hlti : ¬ (q : Int) < (n : Int) := by omega
      go_wp2_with fail
      go_ret
      exact ⟨rfl, HB2w.out⟩
  · have hans : m4 = m ∧ ys = xs := by
      rcases HCut.out with ⟨h1, _⟩ | ⟨_, h1, h2⟩
      · exact absurd h1 hin
      · exact ⟨h1, h2⟩
    obtain ⟨rfl, rfl⟩ := hans
    obtain rfl : k = n := by omega
    cases hok : okT m4 ys with
    | false =>
      clear hin
      have HSm : Hid (∀ W : World, Below w6.heap.size w6 W → Calls Try.prog 22 #[.slice a4 k c4, .slice av k cv] W fun e w' => e = .returned (.bool true) ∧ Below W.heap.size W w') := fun W hW => sameFields_same _ _ _ _ _ ys _ (HAll.out W hW).2.2.2.1.flds (HAll.out W hW).2.2.1.flds (by omega)
      obtain ⟨p0, p1, _, _⟩ := (HAll.out _ (Below.refl _ _)).1.cells
      obtain ⟨q0, q1, _, _⟩ := (HAll.out _ (Below.refl _ _)).2.1.cells
      have hee : (m4 == m4) = true := by simp
      go_wp2_with fail
      refine (HSm.out _ (Below.refl _ _)).mono ?_
      rintro e w7 ⟨rfl, hb7⟩
      have HB7 : Hid (Below w1.heap.size w1 w7) := (HAll.out _ hb7).2.2.2.2
      clear hb7
      go_wp2_with fail
      go_ret
      exact ⟨rfl, HB7.out⟩
    | true =>
      have hio : i < 0 ∨ 4096 < i := by
        rw [hok] at hin
        simp at hin
        omega
      clear hin hok
      by_cases hi00 : i < 0
      · skip
        have HSm : Hid (∀ W : World, Below w6.heap.size w6 W → Calls Try.prog 22 #[.slice a4 k c4, .slice av k cv] W fun e w' => e = .returned (.bool true) ∧ Below W.heap.size W w') := fun W hW => sameFields_same _ _ _ _ _ ys _ (HAll.out W hW).2.2.2.1.flds (HAll.out W hW).2.2.1.flds (by omega)
        obtain ⟨p0, p1, _, _⟩ := (HAll.out _ (Below.refl _ _)).1.cells
        obtain ⟨q0, q1, _, _⟩ := (HAll.out _ (Below.refl _ _)).2.1.cells
        have hee : (m4 == m4) = true := by simp
        go_wp2_with fail
        refine (HSm.out _ (Below.refl _ _)).mono ?_
        rintro e w7 ⟨rfl, hb7⟩
        have HB7 : Hid (Below w1.heap.size w1 w7) := (HAll.out _ hb7).2.2.2.2
        clear hb7
        go_wp2_with fail
        go_ret
        exact ⟨rfl, HB7.out⟩
      · have hi01 : 4096 < i := by omega
        have HSm : Hid (∀ W : World, Below w6.heap.size w6 W → Calls Try.prog 22 #[.slice a4 k c4, .slice av k cv] W fun e w' => e = .returned (.bool true) ∧ Below W.heap.size W w') := fun W hW => sameFields_same _ _ _ _ _ ys _ (HAll.out W hW).2.2.2.1.flds (HAll.out W hW).2.2.1.flds (by omega)
        obtain ⟨p0, p1, _, _⟩ := (HAll.out _ (Below.refl _ _)).1.cells
        obtain ⟨q0, q1, _, _⟩ := (HAll.out _ (Below.refl _ _)).2.1.cells
        have hee : (m4 == m4) = true := by simp
        go_wp2_with fail
        refine (HSm.out _ (Below.refl _ _)).mono ?_
        rintro e w7 ⟨rfl, hb7⟩
        have HB7 : Hid (Below w1.heap.size w1 w7) := (HAll.out _ hb7).2.2.2.2
        clear hb7
        go_wp2_with fail
        go_ret
        exact ⟨rfl, HB7.out⟩

end Go.Proofs.Ytnenphedodfnnab
