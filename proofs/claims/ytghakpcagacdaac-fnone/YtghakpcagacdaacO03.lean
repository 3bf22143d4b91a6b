/- The law that a drawn field put in any mode comes back, and that only the first mode keeps it. -/
import Derived.Test.YtghakpcagacdaacM22
import Derived.Test.YtghakpcagacdaacO01
import Derived.Test.YtghakpcagacdaacO01
import Derived.Test.YtghakpcagacdaacO02
import Derived.Test.YtghakpcagacdaacM25
import Derived.Deep.Cut
namespace Go.Proofs.Ytghakpcagacdaac
open Go.RowKit
set_option linter.unusedVariables false

theorem Below.still {w w' : World} (h : ∃ n, w' = w.drewN n) : Below w.heap.size w w' := by
  obtain ⟨n, rfl⟩ := h
  exact below_drewN (Below.refl _ _) n

set_option maxRecDepth 10000 in
set_option maxHeartbeats 3200000 in
theorem lawOne_any (a : Option Addr) (len cap : Nat) (zs : List Int) (w : World) (hm : len ≤ maxLen) (hs : Seg w a len zs) :
    Calls Try.prog 4 #[.slice a len cap] w fun e w' => e = .returned (.bool true) ∧ Below w.heap.size w w' := by
  have HS : Hid (Seg w a len zs) := hs
  clear hs
  by_cases hbig : (1048576 : Int) < (len : Int)
  · have hd : Hid (decide ((1048576 : Int) < (len : Int)) = true) := by show _ = _; simpa using hbig
    go_enter Try.func4, Try.ntmps4
    go_wp2_with fail
    refine (big_any a len cap w hm).mono ?_
    rintro e w1 ⟨rfl, hw1⟩
    subst w1
    rw [hd.out]
    go_wp2_with fail
    go_ret
    exact ⟨rfl, Below.refl _ _⟩
  have hd : Hid (decide ((1048576 : Int) < (len : Int)) = false) := by show _ = _; simpa using hbig
  have hl : len ≤ 1099511627776 := by omega
  clear hbig
  go_enter Try.func4, Try.ntmps4
  go_wp2_with fail
  refine (big_any a len cap w hm).mono ?_
  rintro e w1 ⟨rfl, hw1⟩
  subst w1
  rw [hd.out]
  go_wp2_with fail
  refine (drawOne_any a len cap zs w HS.out hl).mono ?_
  rintro e w2 ⟨m, va, n, vc, xs, x, y, mode, rfl, ⟨hn7, hfb, hx, hy⟩, hxs, hb2⟩
  have hnx : Hid (xs.length = n) := hxs.1
  have hall : n + (x.size + y.size) + fldBytes xs ≤ 1048576 := by omega
  have hall2 : n + fldBytes xs ≤ 1048576 := by omega
  have hall3 : n + fldBytes xs ≤ 2097152 := by omega
  have hxm : x.size ≤ maxLen ∧ y.size ≤ maxLen := by unfold maxLen; omega
  have HXm : Hid (x.size ≤ maxLen ∧ y.size ≤ maxLen) := hxm
  have HX3 : Hid (Flds ((w2.alloc (.cells #[.int .i64 m, .slice va n vc] 26)).alloc (.cells #[.string x, .string y] 36)) va n xs) := (hxs.below ((Below.refl _ _).alloc (Nat.le_refl _) _)).below ((Below.refl _ _).alloc (Nat.le_refl _) _)
  have HT3 : Hid (Box2 ((w2.alloc (.cells #[.int .i64 m, .slice va n vc] 26)).alloc (.cells #[.string x, .string y] 36)) w2.heap.size 26 (.int .i64 m) (.slice va n vc)) := (Box2.new _ _ _ _).alloc _
  have HF3 : Hid (Box2 ((w2.alloc (.cells #[.int .i64 m, .slice va n vc] 26)).alloc (.cells #[.string x, .string y] 36)) (w2.heap.size + 1) 36 (.string x) (.string y)) := by
    show Box2 _ _ _ _ _
    have := Box2.new (w2.alloc (.cells #[.int .i64 m, .slice va n vc] 26)) 36 (.string x) (.string y)
    rwa [World.size_alloc] at this
  have HB3 : Hid (Below w.heap.size w ((w2.alloc (.cells #[.int .i64 m, .slice va n vc] 26)).alloc (.cells #[.string x, .string y] 36))) := (hb2.alloc hb2.size _).alloc (by have := hb2.size; simp; omega) _
  clear hxs hb2 hxm
  go_upto_region 4 with fail
  obtain ⟨w3, hw3⟩ : ∃ w3, (w2.alloc (.cells #[.int .i64 m, .slice va n vc] 26)).alloc (.cells #[.string x, .string y] 36) = w3 := ⟨_, rfl⟩
  rw [hw3] at HX3 HT3 HF3 HB3 ⊢
  clear hw3
  have hbtf : Hid (¬ w2.heap.size = w2.heap.size + 1) := by show ¬ _; omega
  generalize w2.heap.size + 1 = bf at *
  generalize w2.heap.size = bt at *
  obtain ⟨b0, b1, _, _⟩ := HT3.out.cells
  obtain ⟨f0, f1, _, _⟩ := HF3.out.cells
  go_wp2_with fail
  refine (implPutF_any m va n vc xs x y mode w3 HX3.out HXm.out hall).mono ?_
  rintro e w4 ⟨q, aq, cq, v4, n4, ys, rfl, hput, hoq, hoy, hb4⟩
  obtain ⟨ay, cy, rfl⟩ := hoy.shape
  have HPut : Hid (PutAns m xs x y mode q ys) := hput
  have hfit := hput.fits
  have HQr : Hid (∀ x ∈ q, 0 ≤ x ∧ x ≤ 255) := hoq.2
  obtain ⟨ql, hql⟩ : ∃ ql, q.length = ql := ⟨_, rfl⟩
  have HQL : Hid (q.length = ql) := hql
  have hqlb : ql ≤ 2097152 := by omega
  have hyl := hoy.len
  have HNy : Hid (ys.length = n4) := hyl
  have hny : n4 ≤ 2097152 := by have := hnx.out; omega
  rw [hql] at hoq ⊢
  have HA : Hid (Below w3.heap.size w3 (w4.alloc (.cells #[.int .i64 m, .slice ay n4 cy] 26))) := hb4.alloc hb4.size _
  have HM5 : Hid (Box2 (w4.alloc (.cells #[.int .i64 m, .slice ay n4 cy] 26)) w4.heap.size 26 (.int .i64 m) (.slice ay n4 cy)) := Box2.new _ _ _ _
  have HQ5 : Hid (Seg (w4.alloc (.cells #[.int .i64 m, .slice ay n4 cy] 26)) aq ql q) := hoq.seg.below ((Below.refl _ _).alloc (Nat.le_refl _) _)
  have HQc : Hid (ql ≤ cq) := hoq.cap
  have HY5 : Hid (Flds (w4.alloc (.cells #[.int .i64 m, .slice ay n4 cy] 26)) ay n4 ys) := hoy.flds.below ((Below.refl _ _).alloc (Nat.le_refl _) _)
  clear hput hfit hoq hoy hb4 hql hyl b0 b1 f0 f1
  go_upto_region 5 with fail
  obtain ⟨w5, hw5⟩ : ∃ w5, w4.alloc (.cells #[.int .i64 m, .slice ay n4 cy] 26) = w5 := ⟨_, rfl⟩
  rw [hw5] at HA HM5 HQ5 HY5 ⊢
  clear hw5
  generalize w4.heap.size = bm at *
  have HT5 : Hid (Box2 w5 bt 26 (.int .i64 m) (.slice va n vc)) := HT3.out.stays HA.out
  have HF5 : Hid (Box2 w5 bf 36 (.string x) (.string y)) := HF3.out.stays HA.out
  have HX5 : Hid (Flds w5 va n xs) := HX3.out.below HA.out
  have HB5 : Hid (Below w.heap.size w w5) := HB3.out.trans (HA.out.mono HB3.out.size)
  clear HA HT3 HF3 HX3 HB3
  obtain ⟨b0, b1, _, _⟩ := HT5.out.cells
  go_wp2_with fail
  refine (specOk_any m va n vc xs w5 HX5.out hall3).mono ?_
  rintro e w6 ⟨rfl, hb6⟩
  have HT6 : Hid (Box2 w6 bt 26 (.int .i64 m) (.slice va n vc)) := HT5.out.stays hb6
  have HF6 : Hid (Box2 w6 bf 36 (.string x) (.string y)) := HF5.out.stays hb6
  have HM6 : Hid (Box2 w6 bm 26 (.int .i64 m) (.slice ay n4 cy)) := HM5.out.stays hb6
  have HX6 : Hid (Flds w6 va n xs) := HX5.out.below hb6
  have HY6 : Hid (Flds w6 ay n4 ys) := HY5.out.below hb6
  have HQ6 : Hid (Seg w6 aq ql q) := HQ5.out.below hb6
  have HB6 : Hid (Below w.heap.size w w6) := HB5.out.trans (hb6.mono HB5.out.size)
  clear hb6 HT5 HF5 HM5 HX5 HY5 HQ5 HB5 b0 b1
  obtain ⟨b0, b1, _, _⟩ := HT6.out.cells
  obtain ⟨c0, c1, _, _⟩ := HM6.out.cells
  by_cases hgood : okT m xs = true ∧ 1 ≤ mode ∧ mode ≤ 3
  case neg =>
    have hqy : q = [] ∧ ys = xs := by
      rcases HPut.out with ⟨h, _⟩ | ⟨_, h1, h2⟩
      · exact absurd h hgood
      · exact ⟨h1, h2⟩
    obtain ⟨rfl, rfl⟩ := hqy
    obtain rfl : ql = 0 := by rw [← HQL.out]; rfl
    obtain rfl : n4 = n := by rw [← HNy.out, hnx.out]
    obtain ⟨ok, hok⟩ : ∃ ok, okT m ys = ok := ⟨_, rfl⟩
    rw [hok] at hgood ⊢
    have hcase : ok = false ∨ (ok = true ∧ mode < 1) ∨ (ok = true ∧ ¬ mode < 1 ∧ 3 < mode) := by
      cases ok with
      | false => exact .inl rfl
      | true =>
        have : ¬ (1 ≤ mode ∧ mode ≤ 3) := fun h => hgood ⟨rfl, h⟩
        by_cases h1 : mode < 1
        · exact .inr (.inl ⟨rfl, h1⟩)
        · exact .inr (.inr ⟨rfl, h1, by omega⟩)
    clear hgood hok
    rcases hcase with rfl | ⟨rfl, h1⟩ | ⟨rfl, h1, h2⟩
    all_goals
      go_wp2_with fail
      refine (sameFields_still _ _ n4 cy vc ys w6 HY6.out HX6.out (by omega)).mono ?_
      rintro e w7 ⟨rfl, st7⟩
      have HB7 : Hid (Below w.heap.size w w7) := HB6.out.trans ((Below.still st7).mono HB6.out.size)
      clear st7
      go_wp2_with fail
      go_ret
      exact ⟨rfl, HB7.out⟩
  obtain ⟨hok, hm1, hm3⟩ := hgood
  have HOk : Hid (okT m xs = true) := hok
  rw [hok]
  have g1 : ¬ mode < 1 := by omega
  have g2 : ¬ 3 < mode := by omega
  clear hok
  go_wp2_with fail
  refine (implGetFs_any m va n vc xs 4096 aq ql cq q w6 HX6.out HQ6.out HQc.out hall2 (by omega)).mono ?_
  rintro e w7 ⟨gs, m7, ys7, code, fa, fc, a7, n7, c7, rfl, hans, hof, hot, hb7⟩
  obtain ⟨hpos, hstep⟩ := step_back HPut.out HOk.out hm1 hm3 (by omega) (by omega) 4096 [] (by simp) [] []
  have hrun : RunN q 4096 m xs 1 q.length m ys [(x, y)] := by
    refine ⟨0, m, xs, [], ⟨rfl, rfl, rfl, rfl⟩, hpos, ?_⟩
    simpa using hstep
  obtain ⟨rfl, rfl, rfl, rfl⟩ := hans.good HQr.out HOk.out (by omega) (by omega) hrun
  obtain rfl : n7 = n4 := by rw [← hot.len, HNy.out]
  have HF8 : Hid (Flds (w7.alloc (.cells #[.int .i64 m7, .slice a7 n7 c7] 26)) fa 1 [(x, y)]) := hof.flds.below ((Below.refl _ _).alloc (Nat.le_refl _) _)
  have HZ8 : Hid (Flds (w7.alloc (.cells #[.int .i64 m7, .slice a7 n7 c7] 26)) a7 n7 ys7) := hot.flds.below ((Below.refl _ _).alloc (Nat.le_refl _) _)
  have HO8 : Hid (Box2 (w7.alloc (.cells #[.int .i64 m7, .slice a7 n7 c7] 26)) w7.heap.size 26 (.int .i64 m7) (.slice a7 n7 c7)) := Box2.new _ _ _ _
  have HA8 : Hid (Below w6.heap.size w6 (w7.alloc (.cells #[.int .i64 m7, .slice a7 n7 c7] 26))) := hb7.alloc hb7.size _
  clear hans hof hot hb7 hpos hstep hrun
  simp only [List.length_cons, List.length_nil, Nat.zero_add]
  go_upto_region 8 with fail
  obtain ⟨w8, hw8⟩ : ∃ w8, w7.alloc (.cells #[.int .i64 m7, .slice a7 n7 c7] 26) = w8 := ⟨_, rfl⟩
  rw [hw8] at HF8 HZ8 HO8 HA8 ⊢
  clear hw8
  generalize w7.heap.size = bo at *
  have HT8 : Hid (Box2 w8 bt 26 (.int .i64 m7) (.slice va n vc)) := HT6.out.stays HA8.out
  have HG8 : Hid (Box2 w8 bf 36 (.string x) (.string y)) := HF6.out.stays HA8.out
  have HM8 : Hid (Box2 w8 bm 26 (.int .i64 m7) (.slice ay n7 cy)) := HM6.out.stays HA8.out
  have HX8 : Hid (Flds w8 va n xs) := HX6.out.below HA8.out
  have HY8 : Hid (Flds w8 ay n7 ys7) := HY6.out.below HA8.out
  have HB8 : Hid (Below w.heap.size w w8) := HB6.out.trans (HA8.out.mono HB6.out.size)
  clear HA8 HT6 HF6 HM6 HX6 HY6 HB6 HQ6 b0 b1 c0 c1
  obtain ⟨b0, b1, _, _⟩ := HT8.out.cells
  obtain ⟨c0, c1, _, _⟩ := HM8.out.cells
  obtain ⟨d0, d1, _, _⟩ := HO8.out.cells
  obtain ⟨g0, g1', _, _⟩ := HG8.out.cells
  obtain ⟨bx, ox, x1, y1, rfl, _, hfx, e0, e1⟩ := HF8.out.at (k := 0) (by omega)
  obtain ⟨rfl, rfl⟩ : x = x1 ∧ y = y1 := by simpa using hfx
  simp only [Nat.zero_mul, Nat.add_zero] at e0 e1
  clear hfx
  have HSt : Hid (∀ k : Nat, Calls Try.prog 12 #[.slice ay n7 cy, .slice a7 n7 c7] (w8.drewN k) fun e w' => e = .returned (.bool true) ∧ ∃ n, w' = (w8.drewN k).drewN n) := fun k => sameFields_still _ _ n7 cy c7 ys7 _ (HY8.out.below (below_drewN (Below.refl _ _) k)) (HZ8.out.below (below_drewN (Below.refl _ _) k)) hny
  go_quiet (first | (go_at_call 12; exact Calls.quiet_of (HSt.out _)))
  by_cases hmo : mode = 1
  · have hmb : (mode == 1) = true := by simpa using hmo
    go_wp2_with fail
    go_ret
    exact ⟨rfl, below_drewN HB8.out _⟩
  · have hmb : (mode == 1) = false := by simpa using hmo
    obtain rfl : ys7 = xs := by
      rcases HPut.out with ⟨_, i, b, _, _, ⟨h, _⟩ | ⟨_, h⟩⟩ | ⟨_, _, h⟩
      · exact absurd h hmo
      · exact h
      · exact h
    obtain rfl : n7 = n := by rw [← HNy.out, hnx.out]
    go_wp2_with fail
    refine (sameFields_still _ _ n7 cy vc ys7 _ (HY8.out.below (below_drewN (Below.refl _ _) _)) (HX8.out.below (below_drewN (Below.refl _ _) _)) hny).mono ?_
    rintro e w9 ⟨rfl, st9⟩
    have HB9 : Hid (Below w.heap.size w w9) := by
      show Below _ _ _
      have h1 := below_drewN HB8.out nq
      exact h1.trans ((Below.still st9).mono h1.size)
    clear st9
    go_wp2_with fail
    go_ret
    exact ⟨rfl, HB9.out⟩

end Go.Proofs.Ytghakpcagacdaac
