/- The law on fields that are put into a table. -/
import Derived.Test.YtljhplddgcmmoabDrawAdd
import Derived.Test.YtljhplddgcmmoabSameF
import Derived.Test.YtljhplddgcmmoabLawBig
import Derived.Test.YtljhplddgcmmoabTimOk
import Derived.Test.YtljhplddgcmmoabTimAdd
import Derived.Test.YtljhplddgcmmoabTimAt
import Derived.Lib.Strings
import Derived.Deep.RegionHeld3
import Derived.Deep.Cut
namespace Go.Proofs.Ytljhplddgcmmoab
open Go.RowKit
set_option linter.unusedVariables false

theorem Flds.drop1 {w : World} {b off n : Nat} {f : Fld} {xs : List Fld} (h : Flds w (some ⟨b, off, none⟩) (n + 1) (f :: xs)) : Flds w (some ⟨b, off + 2, none⟩) n xs := by
  obtain ⟨h1, h2, h3⟩ := h
  refine ⟨by simpa using h1, fun g hg => h2 g (List.mem_cons_of_mem _ hg), ?_⟩
  rcases h3 with h3 | ⟨b', off', e, hb, h3⟩
  · omega
  · cases e
    refine .inr ⟨b, off + 2, rfl, hb, fun i hi => ?_⟩
    have h := h3 (i + 1) (by simpa using hi)
    have e1 : off + (i + 1) * 2 = off + 2 + i * 2 := by omega
    rw [e1] at h
    simpa using h

/-- What is behind the table and the field, of a table that is right. -/
theorem add_more {m : Int} {xs : List Fld} {f : Fld} {k : Nat} (h : FitN m.toNat (f :: xs) k) (hm0 : 0 ≤ m) (hm1 : m ≤ 4096) : okT m ((f :: xs).take k) = true ∧ (k = 0 → m < (f.1.size : Int) + (f.2.size : Int) + 32) := by
  obtain ⟨h1, h2, h3⟩ := h
  refine ⟨?_, ?_⟩
  · unfold okT
    rw [decide_eq_true_eq]
    omega
  · rintro rfl
    rcases h3 with h3 | h3
    · simp at h3
    · rw [List.take_succ_cons, List.take_zero, szL_cons, szL_nil] at h3
      omega

set_option maxRecDepth 10000 in
set_option maxHeartbeats 3200000 in
theorem lawTab_any (a : Option Addr) (len cap : Nat) (zs : List Int) (w : World) (hm : len ≤ maxLen) (hs : Seg w a len zs) :
    Calls Try.prog 5 #[.slice a len cap] w fun e w' => e = .returned (.bool true) ∧ Below w.heap.size w w' := by
  have HS : Hid (Seg w a len zs) := hs
  clear hs
  go_enter Try.func5, Try.ntmps5
  go_wp2_with fail
  refine (big_any a len cap _ hm).mono ?_
  rintro e w1 ⟨rfl, rfl⟩
  by_cases hbig : (1048576 : Int) < (len : Int)
  · go_wp2_with fail
    go_ret
    exact ⟨rfl, Below.refl _ _⟩
  go_wp2_with fail
  refine (drawAdd_any a len cap zs _ HS.out (by omega)).mono ?_
  rintro e w2 ⟨m, av, n, cv, xs, x, y, rfl, ⟨hn, hfb, hx, hy⟩, ho2, hb2⟩
  have HO2 : Hid (OwnF w2 w1.heap.size (.slice av n cv) n xs) := ho2
  have HB2 : Hid (Below w1.heap.size w1 w2) := hb2
  clear ho2 hb2 HS
  go_wp2_with fail
  obtain ⟨w3, hw3⟩ : ∃ w3, (w2.alloc (.cells #[.int .i64 m, .slice av n cv] 34)).alloc (.cells #[.string x, .string y] 36) = w3 := ⟨_, rfl⟩
  have hb23 : Below w2.heap.size w2 w3 := by rw [← hw3]; exact ((Below.refl _ _).alloc (Nat.le_refl _) _).alloc (by simp) _
  have HT3 : Hid (Box2 w3 w2.heap.size 34 (.int .i64 m) (.slice av n cv)) := by show Box2 _ _ _ _ _; rw [← hw3]; exact (Box2.new _ _ _ _).alloc _
  have HF3 : Hid (Box2 w3 (w2.heap.size + 1) 36 (.string x) (.string y)) := by show Box2 _ _ _ _ _; rw [← hw3, ← World.size_alloc w2 (.cells #[.int .i64 m, .slice av n cv] 34)]; exact Box2.new _ _ _ _
  have HO3 : Hid (OwnF w3 w1.heap.size (.slice av n cv) n xs) := HO2.out.stays hb23
  have HB3 : Hid (Below w1.heap.size w1 w3) := HB2.out.trans (hb23.mono HB2.out.size)
  rw [hw3]
  clear hw3 hb23 HO2 HB2
  generalize w2.heap.size = tb at *
  refine (implAddF_any m av n cv xs x y w3 HO3.out.flds ⟨by unfold maxLen; omega, by unfold maxLen; omega⟩ (by omega)).mono ?_
  rintro e w4 ⟨v4, k, ys, rfl, hans, ho4, hb4⟩
  obtain ⟨a4, c4, rfl⟩ := ho4.shape
  have HT4 : Hid (Box2 w4 tb 34 (.int .i64 m) (.slice av n cv)) := HT3.out.stays hb4
  have HF4 : Hid (Box2 w4 (tb + 1) 36 (.string x) (.string y)) := HF3.out.stays hb4
  have HO4 : Hid (OwnF w4 w1.heap.size (.slice av n cv) n xs) := HO3.out.stays hb4
  have HX4 : Hid (OwnF w4 w3.heap.size (.slice a4 k c4) k ys) := ho4
  have HB4 : Hid (Below w1.heap.size w1 w4) := HB3.out.trans (hb4.mono HB3.out.size)
  have HA : Hid (AddAns m xs (x, y) ys) := hans
  clear hb4 ho4 hans HT3 HF3 HO3 HB3
  obtain ⟨c0, c1, _, _⟩ := (HT4.out.alloc (.cells #[.int .i64 m, .slice a4 k c4] 34)).cells
  obtain ⟨d0, d1, _, _⟩ := HT4.out.cells
  have htb : tb < w4.heap.size := HT4.out.lt
  have htb1 : ¬ tb = w4.heap.size := by omega
  have htb2 : ¬ w4.heap.size = tb := by omega
  go_wp2_with fail
  obtain ⟨w5, hw5⟩ : ∃ w5, w4.alloc (.cells #[.int .i64 m, .slice a4 k c4] 34) = w5 := ⟨_, rfl⟩
  have hb45 : Below w4.heap.size w4 w5 := by rw [← hw5]; exact (Below.refl _ _).alloc (Nat.le_refl _) _
  have HV5 : Hid (Box2 w5 w4.heap.size 34 (.int .i64 m) (.slice a4 k c4)) := by show Box2 _ _ _ _ _; rw [← hw5]; exact Box2.new _ _ _ _
  rw [hw5]
  clear hw5 c0 c1 d0 d1
  have HT5 : Hid (Box2 w5 tb 34 (.int .i64 m) (.slice av n cv)) := HT4.out.stays hb45
  have HF5 : Hid (Box2 w5 (tb + 1) 36 (.string x) (.string y)) := HF4.out.stays hb45
  have HO5 : Hid (OwnF w5 w1.heap.size (.slice av n cv) n xs) := HO4.out.stays hb45
  have HX5 : Hid (OwnF w5 w3.heap.size (.slice a4 k c4) k ys) := HX4.out.stays hb45
  have HB5 : Hid (Below w1.heap.size w1 w5) := HB4.out.trans (hb45.mono HB4.out.size)
  clear hb45 HT4 HF4 HO4 HX4 HB4 htb htb1 htb2
  generalize w4.heap.size = xb at *
  generalize tb + 1 = fb at *
  refine (specOk_any m av n cv xs w5 HO5.out.flds (by omega)).mono ?_
  rintro e w6 ⟨rfl, hb6⟩
  have HAll : Hid (∀ W, Below w6.heap.size w6 W → Box2 W tb 34 (.int .i64 m) (.slice av n cv) ∧ Box2 W xb 34 (.int .i64 m) (.slice a4 k c4) ∧ OwnF W w1.heap.size (.slice av n cv) n xs ∧ OwnF W w3.heap.size (.slice a4 k c4) k ys ∧ Below w1.heap.size w1 W ∧ Box2 W fb 36 (.string x) (.string y)) := by
    intro W hW
    have hb := hb6.trans (hW.mono hb6.size)
    exact ⟨HT5.out.stays hb, HV5.out.stays hb, HO5.out.stays hb, HX5.out.stays hb, HB5.out.trans (hb.mono HB5.out.size), HF5.out.stays hb⟩
  have hkl := HX5.out.len
  have hnl := HO5.out.len
  clear hb6 HT5 HV5 HO5 HX5 HB5 HF5
  obtain ⟨p0, p1, _, _⟩ := (HAll.out _ (Below.refl _ _)).1.cells
  obtain ⟨q0, q1, _, _⟩ := (HAll.out _ (Below.refl _ _)).2.1.cells
  cases hok : okT m xs with
  | false =>
    obtain rfl : ys = xs := by
      rcases HA.out with ⟨h1, _⟩ | ⟨_, h1⟩
      · rw [hok] at h1; cases h1
      · exact h1
    obtain rfl : k = n := by omega
    have HOk : Hid (∀ W : World, Below w6.heap.size w6 W → Calls Try.prog 22 #[.agg #[.int .i64 m, .slice av k cv]] W fun e w' => e = .returned (.bool false) ∧ Below W.heap.size W w') := by
      intro W hW
      have := implOk_any m av k cv ys W (HAll.out W hW).2.2.1.flds (by omega)
      rwa [hok] at this
    go_wp2_with fail
    refine (HOk.out _ (Below.refl _ _)).mono ?_
    rintro e w7 ⟨rfl, hb7⟩
    have HB7 : Hid (Below w6.heap.size w6 w7) := hb7
    clear hb7 p0 p1 q0 q1
    obtain ⟨p0, p1, _, _⟩ := (HAll.out _ HB7.out).1.cells
    obtain ⟨q0, q1, _, _⟩ := (HAll.out _ HB7.out).2.1.cells
    go_wp2_with fail
    refine (sameFields_same _ _ _ _ _ ys _ (HAll.out _ HB7.out).2.2.2.1.flds (HAll.out _ HB7.out).2.2.1.flds (by omega)).mono ?_
    rintro e w8 ⟨rfl, hb8⟩
    have HB8 : Hid (Below w1.heap.size w1 w8) := (HAll.out _ (HB7.out.trans (hb8.mono HB7.out.size))).2.2.2.2.1
    clear hb8
    go_wp2_with fail
    go_ret
    exact ⟨rfl, HB8.out⟩
  | true =>
    obtain ⟨q, hfit, rfl⟩ : ∃ q, FitN m.toNat ((x, y) :: xs) q ∧ ys = ((x, y) :: xs).take q := by
      rcases HA.out with ⟨_, h1⟩ | ⟨h1, _⟩
      · exact h1
      · rw [hok] at h1; cases h1
    obtain rfl : q = k := by rw [List.length_take] at hkl; have := hfit.1; omega
    have hmm : 0 ≤ m ∧ m ≤ 4096 := by unfold okT at hok; rw [decide_eq_true_eq] at hok; exact ⟨hok.1, hok.2.1⟩
    obtain ⟨hok2, hzero⟩ := add_more hfit hmm.1 hmm.2
    have hq8 : q ≤ n + 1 := by have := hfit.1; simp only [List.length_cons] at this; omega
    have hfb2 : fldBytes (((x, y) :: xs).take q) ≤ 6560 := by
      have h1 := fldBytes_take ((x, y) :: xs) q
      have h2 : fldBytes ((x, y) :: xs) = x.size + y.size + fldBytes xs := by simp [fldBytes]
      omega
    have hszm : (32 * (q : Int) + (fldBytes (((x, y) :: xs).take q) : Int)) ≤ m := by
      unfold okT at hok2
      rw [decide_eq_true_eq] at hok2
      have h2 := hok2.2.2
      unfold szL at h2
      rw [hkl] at h2
      omega
    have HOk : Hid (∀ W : World, Below w6.heap.size w6 W → Calls Try.prog 22 #[.agg #[.int .i64 m, .slice a4 q c4]] W fun e w' => e = .returned (.bool true) ∧ Below W.heap.size W w') := by
      intro W hW
      have := implOk_any m a4 q c4 (((x, y) :: xs).take q) W (HAll.out W hW).2.2.2.1.flds (by omega)
      rwa [hok2] at this
    obtain ⟨sz, hsz⟩ : ∃ sz : Int, (32 * (q : Int) + (fldBytes (((x, y) :: xs).take q) : Int)) = sz := ⟨_, rfl⟩
    have HSz : Hid (∀ W : World, Below w6.heap.size w6 W → Calls Try.prog 24 #[.agg #[.int .i64 m, .slice a4 q c4]] W fun e w' => e = .returned (.int .i64 sz) ∧ Below W.heap.size W w') := by
      intro W hW
      have h := implSize_any m a4 q c4 (((x, y) :: xs).take q) W (HAll.out W hW).2.2.2.1.flds (by omega)
      rw [hsz] at h
      exact h
    rw [hsz] at hszm
    have hszn : decide (m < sz) = false := by simp; omega
    have hszn2 : (m < sz) = False := by simp; omega
    have HFit : Hid (FitN m.toNat ((x, y) :: xs) q) := hfit
    have HK : Hid (q = 0 → m < (x.size : Int) + (y.size : Int) + 32) := hzero
    clear hsz hfit hzero hok2 HA
    have hmm2 : (m != m) = false := by simp
    have hq9 : decide ((n : Int) + 1 < (q : Int)) = false := by simp; omega
    have hq92 : ((n : Int) + 1 < (q : Int)) = False := by simp; omega
    have hn7 : (n : Int) ≤ 7 := by omega
    go_upto_region 7 with fail
    go_cut [57] from 7 (fun v W => v = .bool false ∧ Hid (Below w6.heap.size w6 W))
    case first =>
      clear hok hbig hfb hx hy hkl hnl hmm hszm hq8 hfb2
      go_region_held3 (fun W => W.cell? ⟨tb, 0, none⟩ = some (.int .i64 m) ∧ W.cell? ⟨tb, 1, none⟩ = some (.slice av n cv) ∧ W.cell? ⟨xb, 0, none⟩ = some (.int .i64 m) ∧ W.cell? ⟨xb, 1, none⟩ = some (.slice a4 q c4)) (refine ⟨?_, ?_, ?_, ?_⟩ <;> assumption) (first
        | (go_at_call 22; refine (HOk.out _ (Below.refl _ _).drew).mono ?_; rintro e y1 ⟨rfl, hb1⟩; have hb1' : Below w6.heap.size w6 y1 := (Below.refl w6.heap.size w6).drew.trans (hb1.mono (Nat.le_refl _)); obtain ⟨s0, s1, _, _⟩ := (HAll.out _ hb1').1.cells; obtain ⟨t0, t1, _, _⟩ := (HAll.out _ hb1').2.1.cells)
        | (go_at_call 24; refine (HSz.out _ hb1').mono ?_; rintro e y2 ⟨rfl, hb2⟩; have hb2' : Below w6.heap.size w6 y2 := hb1'.trans (hb2.mono hb1'.size); obtain ⟨s0', s1', _, _⟩ := (HAll.out _ hb2').1.cells; obtain ⟨t0', t1', _, _⟩ := (HAll.out _ hb2').2.1.cells))
      all_goals
        have HB2 : Hid (Below w6.heap.size w6 y2) := hb2'
        clear hb1 hb1' hb2 hb2' s0 s1 t0 t1 s0' s1' t0' t1'
        go_wp2_with fail
        go_meet
        refine ⟨?_, HB2⟩
        have hwn : IntKind.i64.wrap ((n : Int) + 1) = (n : Int) + 1 := by simp [IntKind.wrap, go_sem]; omega
        rw [hwn, hq9]
    case rest =>
    obtain ⟨rfl, HB2⟩ := hcut
    have HB2w : Hid (Below w1.heap.size w1 wc) := (HAll.out _ HB2.out).2.2.2.2.1
    clear p0 p1 q0 q1 HOk HSz
    obtain ⟨s0, s1, _, _⟩ := (HAll.out _ HB2.out).1.cells
    obtain ⟨t0, t1, _, _⟩ := (HAll.out _ HB2.out).2.1.cells
    obtain ⟨f0, f1, _, _⟩ := (HAll.out _ HB2.out).2.2.2.2.2.cells
    by_cases hq0 : q = 0
    · subst hq0
      have hlt := HK.out rfl
      go_wp2_with fail
      go_ret
      exact ⟨rfl, HB2w.out⟩
    · have hqi : ((q : Int) == 0) = false := by simp; omega
      have hqi' : ¬ (q : Int) = 0 := by omega
      obtain ⟨j, hjq⟩ : ∃ j, q = j + 1 := ⟨q - 1, by omega⟩
      have htk : ((x, y) :: xs).take q = (x, y) :: xs.take j := by rw [hjq, List.take_succ_cons]
      rw [htk] at HAll
      have hat : atAns ((x, y) :: xs.take j) 62 = ((x, y), true) := by simp [atAns]
      have HAt : Hid (Calls Try.prog 25 #[.agg #[.int .i64 m, .slice a4 q c4], .int .i64 62] wc fun e w' => e = .returned (.tuple #[.agg #[.string x, .string y], .bool true]) ∧ Below wc.heap.size wc w') := by
        have h := implAt_any m 62 a4 q c4 ((x, y) :: xs.take j) wc (HAll.out _ HB2.out).2.2.2.1.flds (by omega) (by omega)
        rw [hat] at h
        exact h
      have HJ : Hid (q = j + 1) := hjq
      clear hat htk hjq
      go_wp2_with fail
      refine HAt.out.mono ?_
      rintro e v1 ⟨rfl, hbv⟩
      have HL1 : Hid (Below w6.heap.size w6 v1) := HB2.out.trans (hbv.mono HB2.out.size)
      clear hbv HAt s0 s1 t0 t1 f0 f1 HB2 HB2w
      obtain ⟨v2, hv2⟩ : ∃ v2, v1.alloc (.cells #[.string x, .string y] 36) = v2 := ⟨_, rfl⟩
      have HL : Hid (Below w6.heap.size w6 v2) := by rw [← hv2]; exact HL1.out.alloc HL1.out.size _
      have HG : Hid (Box2 v2 v1.heap.size 36 (.string x) (.string y)) := by show Box2 _ _ _ _ _; rw [← hv2]; exact Box2.new _ _ _ _
      go_upto_region 12 with fail
      clear hv2 HL1
      generalize v1.heap.size = gb at *
      have hjq := HJ.out
      clear HJ
      have hjn : j ≤ n := by omega
      obtain ⟨b4, o4, _, _, rfl, _, _, _, _⟩ := (HAll.out _ HL.out).2.2.2.1.flds.at (show 0 < q by omega)
      have HSm : Hid (∀ (W : World) (a' : Option Addr) (c' : Nat), Below w6.heap.size w6 W → (a' = some ⟨b4, o4 + 2, none⟩ ∨ j = 0) → Calls Try.prog 23 #[.slice a' j c', .slice av j cv] W fun e w' => e = .returned (.bool true) ∧ Below W.heap.size W w') := by
        intro W a' c' hW ha
        refine sameFields_same _ _ _ _ _ (xs.take j) _ ?_ ((HAll.out W hW).2.2.1.flds.take j hjn) (by omega)
        rcases ha with rfl | rfl
        · have h := (HAll.out W hW).2.2.2.1.flds
          rw [hjq] at h
          exact h.drop1
        · exact ⟨by simp, by simp, .inl rfl⟩
      have hcc4 : q ≤ c4 := own_cap (HAll.out _ HL.out).2.2.2.1.1
      have hccv : n ≤ cv := own_cap (HAll.out _ HL.out).2.2.1.1
      have HEnd : Hid (∀ W, Below w6.heap.size w6 W → Below w1.heap.size w1 W) := fun W h => (HAll.out W h).2.2.2.2.1
      obtain ⟨s0, s1, _, _⟩ := (HAll.out _ HL.out).1.cells
      obtain ⟨t0, t1, _, _⟩ := (HAll.out _ HL.out).2.1.cells
      obtain ⟨f0, f1, _, _⟩ := (HAll.out _ HL.out).2.2.2.2.2.cells
      obtain ⟨g0, g1, _, _⟩ := HG.out.cells
      have HCells : Hid (∀ W, Below v2.heap.size v2 W → W.cell? ⟨tb, 1, none⟩ = some (.slice av n cv) ∧ W.cell? ⟨xb, 1, none⟩ = some (.slice (some ⟨b4, o4, none⟩) q c4) ∧ W.cell? ⟨fb, 0, none⟩ = some (.string x) ∧ W.cell? ⟨fb, 1, none⟩ = some (.string y) ∧ W.cell? ⟨gb, 0, none⟩ = some (.string x) ∧ W.cell? ⟨gb, 1, none⟩ = some (.string y)) := by
        intro W hW
        have hW6 : Below w6.heap.size w6 W := HL.out.trans (hW.mono HL.out.size)
        have h := HAll.out W hW6
        exact ⟨h.1.cells.2.1, h.2.1.cells.2.1, h.2.2.2.2.2.cells.1, h.2.2.2.2.2.cells.2.1, (HG.out.stays hW).cells.1, (HG.out.stays hW).cells.2.1⟩
      have hj7 : j ≤ 7 := by omega
      clear HFit HK hkl hnl hmm hok hszn hszn2 hszm hq9 hq92 hq8 hfb2 hn7 hqi hqi' hq0 hbig hn hfb hx hy hmm2 HG HAll
      obtain ⟨d, rfl⟩ : ∃ d, n = d + j := ⟨n - j, by omega⟩
      have hj8 : (j = 0 ∧ q = 1) ∨ (j = 1 ∧ q = 2) ∨ (j = 2 ∧ q = 3) ∨ (j = 3 ∧ q = 4) ∨ (j = 4 ∧ q = 5) ∨ (j = 5 ∧ q = 6) ∨ (j = 6 ∧ q = 7) ∨ (j = 7 ∧ q = 8) := by omega
      clear hj7 hjn hjq
      rcases hj8 with ⟨rfl, rfl⟩ | ⟨rfl, rfl⟩ | ⟨rfl, rfl⟩ | ⟨rfl, rfl⟩ | ⟨rfl, rfl⟩ | ⟨rfl, rfl⟩ | ⟨rfl, rfl⟩ | ⟨rfl, rfl⟩
      · have hcK : (0 : Int) ≤ (cv : Int) := by omega
        have hcK4 : (1 : Int) ≤ (c4 : Int) := by omega
        have hw1 : IntKind.i64.wrap ((1 : Int) - 1) = 0 := by first | decide | rfl | simp [IntKind.wrap, go_sem]
        have hw2 : IntKind.i64.wrap (((1 : Nat) : Int) - 1) = 0 := by first | decide | rfl | simp [IntKind.wrap, go_sem]
        have hw3 : IntKind.i64.wrap (0 : Int) = 0 := by first | decide | rfl | simp [IntKind.wrap, go_sem]
        by_cases hc1 : c4 = 1
        · subst hc1
          go_region_held3 (fun W => W.cell? ⟨tb, 1, none⟩ = some (.slice av (d + 0) cv) ∧ W.cell? ⟨xb, 1, none⟩ = some (.slice (some ⟨b4, o4, none⟩) 1 1) ∧ W.cell? ⟨fb, 0, none⟩ = some (.string x) ∧ W.cell? ⟨fb, 1, none⟩ = some (.string y) ∧ W.cell? ⟨gb, 0, none⟩ = some (.string x) ∧ W.cell? ⟨gb, 1, none⟩ = some (.string y)) (refine ⟨?_, ?_, ?_, ?_, ?_, ?_⟩ <;> assumption) (first
            | (go_at_call 23; refine (HSm.out _ _ _ HL.out.drew (.inr rfl)).mono ?_; rintro e y1 ⟨rfl, hb1⟩; have hb1' : Below w6.heap.size w6 y1 := HL.out.drew.trans (hb1.mono HL.out.size); obtain ⟨z0, z1, z2, z3, z4, z5⟩ := HCells.out _ ((Below.refl v2.heap.size v2).drew.trans (hb1.mono (Nat.le_refl _)))))
          all_goals
            have HBy : Hid (Below w1.heap.size w1 y1) := HEnd.out _ hb1'
            clear hb1 hb1' s0 s1 t0 t1 f0 f1 g0 g1 z0 z1 z2 z3 z4 z5
            go_wp2_with fail
            go_ret
            exact ⟨rfl, HBy.out⟩
        · have hc1i : ¬ (c4 : Int) = 1 := by omega
          go_region_held3 (fun W => W.cell? ⟨tb, 1, none⟩ = some (.slice av (d + 0) cv) ∧ W.cell? ⟨xb, 1, none⟩ = some (.slice (some ⟨b4, o4, none⟩) 1 c4) ∧ W.cell? ⟨fb, 0, none⟩ = some (.string x) ∧ W.cell? ⟨fb, 1, none⟩ = some (.string y) ∧ W.cell? ⟨gb, 0, none⟩ = some (.string x) ∧ W.cell? ⟨gb, 1, none⟩ = some (.string y)) (refine ⟨?_, ?_, ?_, ?_, ?_, ?_⟩ <;> assumption) (first
            | (go_at_call 23; refine (HSm.out _ _ _ HL.out.drew (.inr rfl)).mono ?_; rintro e y1 ⟨rfl, hb1⟩; have hb1' : Below w6.heap.size w6 y1 := HL.out.drew.trans (hb1.mono HL.out.size); obtain ⟨z0, z1, z2, z3, z4, z5⟩ := HCells.out _ ((Below.refl v2.heap.size v2).drew.trans (hb1.mono (Nat.le_refl _)))))
          all_goals
            have HBy : Hid (Below w1.heap.size w1 y1) := HEnd.out _ hb1'
            clear hb1 hb1' s0 s1 t0 t1 f0 f1 g0 g1 z0 z1 z2 z3 z4 z5
            go_wp2_with fail
            go_ret
            exact ⟨rfl, HBy.out⟩
      · have hcK : (1 : Int) ≤ (cv : Int) := by omega
        have hcK4 : (2 : Int) ≤ (c4 : Int) := by omega
        have hw1 : IntKind.i64.wrap ((2 : Int) - 1) = 1 := by first | decide | rfl | simp [IntKind.wrap, go_sem]
        have hw2 : IntKind.i64.wrap (((2 : Nat) : Int) - 1) = 1 := by first | decide | rfl | simp [IntKind.wrap, go_sem]
        have hw3 : IntKind.i64.wrap (1 : Int) = 1 := by first | decide | rfl | simp [IntKind.wrap, go_sem]
        have hc1 : ¬ c4 = 1 := by omega
        have hc1i : ¬ (c4 : Int) = 1 := by omega
        go_region_held3 (fun W => W.cell? ⟨tb, 1, none⟩ = some (.slice av (d + 1) cv) ∧ W.cell? ⟨xb, 1, none⟩ = some (.slice (some ⟨b4, o4, none⟩) 2 c4) ∧ W.cell? ⟨fb, 0, none⟩ = some (.string x) ∧ W.cell? ⟨fb, 1, none⟩ = some (.string y) ∧ W.cell? ⟨gb, 0, none⟩ = some (.string x) ∧ W.cell? ⟨gb, 1, none⟩ = some (.string y)) (refine ⟨?_, ?_, ?_, ?_, ?_, ?_⟩ <;> assumption) (first
          | (go_at_call 23; refine (HSm.out _ _ _ HL.out.drew (.inl rfl)).mono ?_; rintro e y1 ⟨rfl, hb1⟩; have hb1' : Below w6.heap.size w6 y1 := HL.out.drew.trans (hb1.mono HL.out.size); obtain ⟨z0, z1, z2, z3, z4, z5⟩ := HCells.out _ ((Below.refl v2.heap.size v2).drew.trans (hb1.mono (Nat.le_refl _)))))
        all_goals
          have HBy : Hid (Below w1.heap.size w1 y1) := HEnd.out _ hb1'
          clear hb1 hb1' s0 s1 t0 t1 f0 f1 g0 g1 z0 z1 z2 z3 z4 z5
          go_wp2_with fail
          go_ret
          exact ⟨rfl, HBy.out⟩
      · have hcK : (2 : Int) ≤ (cv : Int) := by omega
        have hcK4 : (3 : Int) ≤ (c4 : Int) := by omega
        have hw1 : IntKind.i64.wrap ((3 : Int) - 1) = 2 := by first | decide | rfl | simp [IntKind.wrap, go_sem]
        have hw2 : IntKind.i64.wrap (((3 : Nat) : Int) - 1) = 2 := by first | decide | rfl | simp [IntKind.wrap, go_sem]
        have hw3 : IntKind.i64.wrap (2 : Int) = 2 := by first | decide | rfl | simp [IntKind.wrap, go_sem]
        have hc1 : ¬ c4 = 1 := by omega
        have hc1i : ¬ (c4 : Int) = 1 := by omega
        go_region_held3 (fun W => W.cell? ⟨tb, 1, none⟩ = some (.slice av (d + 2) cv) ∧ W.cell? ⟨xb, 1, none⟩ = some (.slice (some ⟨b4, o4, none⟩) 3 c4) ∧ W.cell? ⟨fb, 0, none⟩ = some (.string x) ∧ W.cell? ⟨fb, 1, none⟩ = some (.string y) ∧ W.cell? ⟨gb, 0, none⟩ = some (.string x) ∧ W.cell? ⟨gb, 1, none⟩ = some (.string y)) (refine ⟨?_, ?_, ?_, ?_, ?_, ?_⟩ <;> assumption) (first
          | (go_at_call 23; refine (HSm.out _ _ _ HL.out.drew (.inl rfl)).mono ?_; rintro e y1 ⟨rfl, hb1⟩; have hb1' : Below w6.heap.size w6 y1 := HL.out.drew.trans (hb1.mono HL.out.size); obtain ⟨z0, z1, z2, z3, z4, z5⟩ := HCells.out _ ((Below.refl v2.heap.size v2).drew.trans (hb1.mono (Nat.le_refl _)))))
        all_goals
          have HBy : Hid (Below w1.heap.size w1 y1) := HEnd.out _ hb1'
          clear hb1 hb1' s0 s1 t0 t1 f0 f1 g0 g1 z0 z1 z2 z3 z4 z5
          go_wp2_with fail
          go_ret
          exact ⟨rfl, HBy.out⟩
      · have hcK : (3 : Int) ≤ (cv : Int) := by omega
        have hcK4 : (4 : Int) ≤ (c4 : Int) := by omega
        have hw1 : IntKind.i64.wrap ((4 : Int) - 1) = 3 := by first | decide | rfl | simp [IntKind.wrap, go_sem]
        have hw2 : IntKind.i64.wrap (((4 : Nat) : Int) - 1) = 3 := by first | decide | rfl | simp [IntKind.wrap, go_sem]
        have hw3 : IntKind.i64.wrap (3 : Int) = 3 := by first | decide | rfl | simp [IntKind.wrap, go_sem]
        have hc1 : ¬ c4 = 1 := by omega
        have hc1i : ¬ (c4 : Int) = 1 := by omega
        go_region_held3 (fun W => W.cell? ⟨tb, 1, none⟩ = some (.slice av (d + 3) cv) ∧ W.cell? ⟨xb, 1, none⟩ = some (.slice (some ⟨b4, o4, none⟩) 4 c4) ∧ W.cell? ⟨fb, 0, none⟩ = some (.string x) ∧ W.cell? ⟨fb, 1, none⟩ = some (.string y) ∧ W.cell? ⟨gb, 0, none⟩ = some (.string x) ∧ W.cell? ⟨gb, 1, none⟩ = some (.string y)) (refine ⟨?_, ?_, ?_, ?_, ?_, ?_⟩ <;> assumption) (first
          | (go_at_call 23; refine (HSm.out _ _ _ HL.out.drew (.inl rfl)).mono ?_; rintro e y1 ⟨rfl, hb1⟩; have hb1' : Below w6.heap.size w6 y1 := HL.out.drew.trans (hb1.mono HL.out.size); obtain ⟨z0, z1, z2, z3, z4, z5⟩ := HCells.out _ ((Below.refl v2.heap.size v2).drew.trans (hb1.mono (Nat.le_refl _)))))
        all_goals
          have HBy : Hid (Below w1.heap.size w1 y1) := HEnd.out _ hb1'
          clear hb1 hb1' s0 s1 t0 t1 f0 f1 g0 g1 z0 z1 z2 z3 z4 z5
          go_wp2_with fail
          go_ret
          exact ⟨rfl, HBy.out⟩
      · have hcK : (4 : Int) ≤ (cv : Int) := by omega
        have hcK4 : (5 : Int) ≤ (c4 : Int) := by omega
        have hw1 : IntKind.i64.wrap ((5 : Int) - 1) = 4 := by first | decide | rfl | simp [IntKind.wrap, go_sem]
        have hw2 : IntKind.i64.wrap (((5 : Nat) : Int) - 1) = 4 := by first | decide | rfl | simp [IntKind.wrap, go_sem]
        have hw3 : IntKind.i64.wrap (4 : Int) = 4 := by first | decide | rfl | simp [IntKind.wrap, go_sem]
        have hc1 : ¬ c4 = 1 := by omega
        have hc1i : ¬ (c4 : Int) = 1 := by omega
        go_region_held3 (fun W => W.cell? ⟨tb, 1, none⟩ = some (.slice av (d + 4) cv) ∧ W.cell? ⟨xb, 1, none⟩ = some (.slice (some ⟨b4, o4, none⟩) 5 c4) ∧ W.cell? ⟨fb, 0, none⟩ = some (.string x) ∧ W.cell? ⟨fb, 1, none⟩ = some (.string y) ∧ W.cell? ⟨gb, 0, none⟩ = some (.string x) ∧ W.cell? ⟨gb, 1, none⟩ = some (.string y)) (refine ⟨?_, ?_, ?_, ?_, ?_, ?_⟩ <;> assumption) (first
          | (go_at_call 23; refine (HSm.out _ _ _ HL.out.drew (.inl rfl)).mono ?_; rintro e y1 ⟨rfl, hb1⟩; have hb1' : Below w6.heap.size w6 y1 := HL.out.drew.trans (hb1.mono HL.out.size); obtain ⟨z0, z1, z2, z3, z4, z5⟩ := HCells.out _ ((Below.refl v2.heap.size v2).drew.trans (hb1.mono (Nat.le_refl _)))))
        all_goals
          have HBy : Hid (Below w1.heap.size w1 y1) := HEnd.out _ hb1'
          clear hb1 hb1' s0 s1 t0 t1 f0 f1 g0 g1 z0 z1 z2 z3 z4 z5
          go_wp2_with fail
          go_ret
          exact ⟨rfl, HBy.out⟩
      · have hcK : (5 : Int) ≤ (cv : Int) := by omega
        have hcK4 : (6 : Int) ≤ (c4 : Int) := by omega
        have hw1 : IntKind.i64.wrap ((6 : Int) - 1) = 5 := by first | decide | rfl | simp [IntKind.wrap, go_sem]
        have hw2 : IntKind.i64.wrap (((6 : Nat) : Int) - 1) = 5 := by first | decide | rfl | simp [IntKind.wrap, go_sem]
        have hw3 : IntKind.i64.wrap (5 : Int) = 5 := by first | decide | rfl | simp [IntKind.wrap, go_sem]
        have hc1 : ¬ c4 = 1 := by omega
        have hc1i : ¬ (c4 : Int) = 1 := by omega
        go_region_held3 (fun W => W.cell? ⟨tb, 1, none⟩ = some (.slice av (d + 5) cv) ∧ W.cell? ⟨xb, 1, none⟩ = some (.slice (some ⟨b4, o4, none⟩) 6 c4) ∧ W.cell? ⟨fb, 0, none⟩ = some (.string x) ∧ W.cell? ⟨fb, 1, none⟩ = some (.string y) ∧ W.cell? ⟨gb, 0, none⟩ = some (.string x) ∧ W.cell? ⟨gb, 1, none⟩ = some (.string y)) (refine ⟨?_, ?_, ?_, ?_, ?_, ?_⟩ <;> assumption) (first
          | (go_at_call 23; refine (HSm.out _ _ _ HL.out.drew (.inl rfl)).mono ?_; rintro e y1 ⟨rfl, hb1⟩; have hb1' : Below w6.heap.size w6 y1 := HL.out.drew.trans (hb1.mono HL.out.size); obtain ⟨z0, z1, z2, z3, z4, z5⟩ := HCells.out _ ((Below.refl v2.heap.size v2).drew.trans (hb1.mono (Nat.le_refl _)))))
        all_goals
          have HBy : Hid (Below w1.heap.size w1 y1) := HEnd.out _ hb1'
          clear hb1 hb1' s0 s1 t0 t1 f0 f1 g0 g1 z0 z1 z2 z3 z4 z5
          go_wp2_with fail
          go_ret
          exact ⟨rfl, HBy.out⟩
      · have hcK : (6 : Int) ≤ (cv : Int) := by omega
        have hcK4 : (7 : Int) ≤ (c4 : Int) := by omega
        have hw1 : IntKind.i64.wrap ((7 : Int) - 1) = 6 := by first | decide | rfl | simp [IntKind.wrap, go_sem]
        have hw2 : IntKind.i64.wrap (((7 : Nat) : Int) - 1) = 6 := by first | decide | rfl | simp [IntKind.wrap, go_sem]
        have hw3 : IntKind.i64.wrap (6 : Int) = 6 := by first | decide | rfl | simp [IntKind.wrap, go_sem]
        have hc1 : ¬ c4 = 1 := by omega
        have hc1i : ¬ (c4 : Int) = 1 := by omega
        go_region_held3 (fun W => W.cell? ⟨tb, 1, none⟩ = some (.slice av (d + 6) cv) ∧ W.cell? ⟨xb, 1, none⟩ = some (.slice (some ⟨b4, o4, none⟩) 7 c4) ∧ W.cell? ⟨fb, 0, none⟩ = some (.string x) ∧ W.cell? ⟨fb, 1, none⟩ = some (.string y) ∧ W.cell? ⟨gb, 0, none⟩ = some (.string x) ∧ W.cell? ⟨gb, 1, none⟩ = some (.string y)) (refine ⟨?_, ?_, ?_, ?_, ?_, ?_⟩ <;> assumption) (first
          | (go_at_call 23; refine (HSm.out _ _ _ HL.out.drew (.inl rfl)).mono ?_; rintro e y1 ⟨rfl, hb1⟩; have hb1' : Below w6.heap.size w6 y1 := HL.out.drew.trans (hb1.mono HL.out.size); obtain ⟨z0, z1, z2, z3, z4, z5⟩ := HCells.out _ ((Below.refl v2.heap.size v2).drew.trans (hb1.mono (Nat.le_refl _)))))
        all_goals
          have HBy : Hid (Below w1.heap.size w1 y1) := HEnd.out _ hb1'
          clear hb1 hb1' s0 s1 t0 t1 f0 f1 g0 g1 z0 z1 z2 z3 z4 z5
          go_wp2_with fail
          go_ret
          exact ⟨rfl, HBy.out⟩
      · have hcK : (7 : Int) ≤ (cv : Int) := by omega
        have hcK4 : (8 : Int) ≤ (c4 : Int) := by omega
        have hw1 : IntKind.i64.wrap ((8 : Int) - 1) = 7 := by first | decide | rfl | simp [IntKind.wrap, go_sem]
        have hw2 : IntKind.i64.wrap (((8 : Nat) : Int) - 1) = 7 := by first | decide | rfl | simp [IntKind.wrap, go_sem]
        have hw3 : IntKind.i64.wrap (7 : Int) = 7 := by first | decide | rfl | simp [IntKind.wrap, go_sem]
        have hc1 : ¬ c4 = 1 := by omega
        have hc1i : ¬ (c4 : Int) = 1 := by omega
        go_region_held3 (fun W => W.cell? ⟨tb, 1, none⟩ = some (.slice av (d + 7) cv) ∧ W.cell? ⟨xb, 1, none⟩ = some (.slice (some ⟨b4, o4, none⟩) 8 c4) ∧ W.cell? ⟨fb, 0, none⟩ = some (.string x) ∧ W.cell? ⟨fb, 1, none⟩ = some (.string y) ∧ W.cell? ⟨gb, 0, none⟩ = some (.string x) ∧ W.cell? ⟨gb, 1, none⟩ = some (.string y)) (refine ⟨?_, ?_, ?_, ?_, ?_, ?_⟩ <;> assumption) (first
          | (go_at_call 23; refine (HSm.out _ _ _ HL.out.drew (.inl rfl)).mono ?_; rintro e y1 ⟨rfl, hb1⟩; have hb1' : Below w6.heap.size w6 y1 := HL.out.drew.trans (hb1.mono HL.out.size); obtain ⟨z0, z1, z2, z3, z4, z5⟩ := HCells.out _ ((Below.refl v2.heap.size v2).drew.trans (hb1.mono (Nat.le_refl _)))))
        all_goals
          have HBy : Hid (Below w1.heap.size w1 y1) := HEnd.out _ hb1'
          clear hb1 hb1' s0 s1 t0 t1 f0 f1 g0 g1 z0 z1 z2 z3 z4 z5
          go_wp2_with fail
          go_ret
          exact ⟨rfl, HBy.out⟩

end Go.Proofs.Ytljhplddgcmmoab
