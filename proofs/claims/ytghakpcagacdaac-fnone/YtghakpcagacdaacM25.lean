/- Two lists of the same fields are told to be the same. The test that lets greater arguments pass. The law that drawn fields come back of their block, and that behind it both tables are the same. -/
import Derived.Test.YtghakpcagacdaacM11
import Derived.Deep.RegionWith
import Derived.Test.YtghakpcagacdaacM01
import Derived.Test.YtghakpcagacdaacM22
import Derived.Test.YtghakpcagacdaacM23
import Derived.Test.YtghakpcagacdaacM24
namespace Go.Proofs.Ytghakpcagacdaac
open Go.RowKit
set_option linter.unusedVariables false

set_option maxHeartbeats 800000 in
theorem sameFields_same (a b : Option Addr) (len ca cb : Nat) (xs : List Fld) (w : World) (hx : Flds w a len xs) (hy : Flds w b len xs) (hl : len ≤ 2097152) :
    Calls Try.prog 12 #[.slice a len ca, .slice b len cb] w fun e w' => e = .returned (.bool true) ∧ Below w.heap.size w w' := by
  have HX : Hid (Flds w a len xs) := hx
  have HY : Hid (Flds w b len xs) := hy
  clear hx hy
  have hne : ((len : Int) != (len : Int)) = false := by simp
  go_enter Try.func12, Try.ntmps12
  go_wp2
  go_loopw [5] (fun i wr => ∃ k : Nat, k ≤ len ∧ i = .int .i64 k ∧ Hid (Below w.heap.size w wr)) (fun i _ => len - (intOf i).toNat)
  case atStart => exact ⟨0, Nat.zero_le _, rfl, Below.refl _ _⟩
  case round =>
    obtain ⟨k, hk, rfl, HW⟩ := hrel
    by_cases hlt : k < len
    · obtain ⟨ba, oa, x, y, rfl, hba, hfa, ha0, ha1⟩ := HX.out.at hlt
      obtain ⟨bb, ob, x', y', rfl, hbb, hfb, hb0, hb1⟩ := HY.out.at hlt
      obtain ⟨rfl, rfl⟩ : x = x' ∧ y = y' := by rw [hfa] at hfb; simpa using hfb
      have ga0 : wr.cell? ⟨ba, oa + k * 2, none⟩ = some (.string x) := (HW.out.cell (p := ⟨ba, _, none⟩) hba).trans ha0
      have ga1 : wr.cell? ⟨ba, oa + k * 2 + 1, none⟩ = some (.string y) := (HW.out.cell (p := ⟨ba, _, none⟩) hba).trans ha1
      have gb0 : wr.cell? ⟨bb, ob + k * 2, none⟩ = some (.string x) := (HW.out.cell (p := ⟨bb, _, none⟩) hbb).trans hb0
      have gb1 : wr.cell? ⟨bb, ob + k * 2 + 1, none⟩ = some (.string y) := (HW.out.cell (p := ⟨bb, _, none⟩) hbb).trans hb1
      clear hfa hfb ha0 ha1 hb0 hb1
      have hki : (k : Int) < (len : Int) := by omega
      have hk0 : (0 : Int) ≤ (k : Int) := by omega
      go_wp2_with fail
      go_region
      all_goals
        have HB3 : Hid (Below w.heap.size w wr.drew) := HW.out.drew
        go_wp2
        go_roundw
        case rel => exact ⟨k + 1, by omega, by go_num, HB3⟩
        case measure => simp [intOf]; omega
    · go_wp2
      go_ret
      exact ⟨rfl, HW.out⟩

end Go.Proofs.Ytghakpcagacdaac

namespace Go.Proofs.Ytghakpcagacdaac
open Go.RowKit
set_option linter.unusedVariables false

set_option maxHeartbeats 400000 in
theorem big_any (a : Option Addr) (len cap : Nat) (w : World) (hl : len ≤ maxLen) :
    Calls Try.prog 8 #[.slice a len cap] w fun e w' => e = .returned (.bool (decide ((1048576 : Int) < (len : Int)))) ∧ w' = w := by
  go_enter Try.func8, Try.ntmps8
  go_wp2
  go_ret
  exact ⟨rfl, rfl⟩

end Go.Proofs.Ytghakpcagacdaac

namespace Go.Proofs.Ytghakpcagacdaac
open Go.RowKit
set_option linter.unusedVariables false

theorem bytes_of_puts {L : List Fld} {m : Int} {xs : List Fld} {n : Nat} {q : List Int} {ys : List Fld} (h : PutN L m xs n q ys) (hn : n = L.length) : L.take n = L := by
  rw [hn, List.take_length]

set_option maxRecDepth 10000 in
set_option maxHeartbeats 3200000 in
theorem lawHead_any (a : Option Addr) (len cap : Nat) (zs : List Int) (w : World) (hm : len ≤ maxLen) (hs : Seg w a len zs) :
    Calls Try.prog 3 #[.slice a len cap] w fun e w' => e = .returned (.bool true) ∧ Below w.heap.size w w' := by
  have HS : Hid (Seg w a len zs) := hs
  clear hs
  by_cases hbig : (1048576 : Int) < (len : Int)
  · have hd : Hid (decide ((1048576 : Int) < (len : Int)) = true) := by show _ = _; simpa using hbig
    go_enter Try.func3, Try.ntmps3
    go_wp2_with fail
    refine (big_any a len cap w hm).mono ?_
    rintro e w1 ⟨rfl, hw1⟩
    subst w1
    rw [hd.out]
    go_wp2_with fail
    go_ret
    exact ⟨rfl, Below.refl _ _⟩
  have hd : Hid (decide ((1048576 : Int) < (len : Int)) = false) := by show _ = _; simpa using hbig
  have hl : len ≤ 1099511627776 := by omega
  clear hbig
  go_enter Try.func3, Try.ntmps3
  go_wp2_with fail
  refine (big_any a len cap w hm).mono ?_
  rintro e w1 ⟨rfl, hw1⟩
  subst w1
  rw [hd.out]
  go_wp2_with fail
  refine (drawHead_any a len cap zs w HS.out hl).mono ?_
  rintro e w2 ⟨m, va, n, vc, xs, g, k, cp, l, rfl, hok, hk5, hl40, hxs, hfl, hb2⟩
  have HOk : Hid (okT m xs = true) := hok
  have hsm := okT_small hok
  have hsum := fld_sum hl40
  have HL40 : Hid (∀ f ∈ l, f.1.size ≤ 40 ∧ f.2.size ≤ 40) := hl40
  have hlk : Hid (l.length = k) := hfl.1
  have hnx : Hid (xs.length = n) := hxs.1
  have hall : n + k + fldBytes xs + fldBytes l ≤ 1048576 := by have := hlk.out; have := hnx.out; omega
  have hall2 : n + fldBytes xs ≤ 1048576 := by omega
  obtain ⟨w3, hw3⟩ : ∃ w3, w2.alloc (.cells #[.int .i64 m, .slice va n vc] 26) = w3 := ⟨_, rfl⟩
  have hb23 : Below w2.heap.size w2 w3 := by rw [← hw3]; exact (Below.refl _ _).alloc (Nat.le_refl _) _
  have HT3 : Hid (Box2 w3 w2.heap.size 26 (.int .i64 m) (.slice va n vc)) := by show Box2 _ _ _ _ _; rw [← hw3]; exact Box2.new _ _ _ _
  have HX3 : Hid (Flds w3 va n xs) := hxs.below hb23
  have HL3 : Hid (Flds w3 (some ⟨g, 0, none⟩) k l) := hfl.below hb23
  have HB3 : Hid (Below w.heap.size w w3) := hb2.trans (hb23.mono hb2.size)
  obtain ⟨b0, b1, _, _⟩ := HT3.out.cells
  clear hok hl40 hxs hfl hb2 hb23 hsm hsum
  go_wp2_with fail
  clear hw3
  generalize w2.heap.size = bt at *
  refine (implPuts_any m va n vc xs _ k cp l w3 HX3.out HL3.out hall).mono ?_
  rintro e w4 ⟨q, aq, cq, v4, n4, ys, rfl, hput, hoq, hoy, hb4⟩
  obtain ⟨ay, cy, rfl⟩ := hoy.shape
  have HPut : Hid (PutN l m xs k q ys) := hput
  have hfit := hput.fits
  have HQr : Hid (∀ x ∈ q, 0 ≤ x ∧ x ≤ 255) := hoq.2
  obtain ⟨ql, hql⟩ : ∃ ql, q.length = ql := ⟨_, rfl⟩
  have HQL : Hid (q.length = ql) := hql
  have hqlb : ql ≤ 2097152 := by have := fldBytes_take l k; omega
  have hyl := hoy.len
  have hny : n4 + fldBytes ys ≤ 2097152 := by have := fldBytes_take l k; have := hnx.out; omega
  rw [hql] at hoq ⊢
  obtain ⟨w5, hw5⟩ : ∃ w5, w4.alloc (.cells #[.int .i64 m, .slice ay n4 cy] 26) = w5 := ⟨_, rfl⟩
  have hb45 : Below w4.heap.size w4 w5 := by rw [← hw5]; exact (Below.refl _ _).alloc (Nat.le_refl _) _
  have hb35 : Below w3.heap.size w3 w5 := hb4.trans (hb45.mono hb4.size)
  have HM5 : Hid (Box2 w5 w4.heap.size 26 (.int .i64 m) (.slice ay n4 cy)) := by show Box2 _ _ _ _ _; rw [← hw5]; exact Box2.new _ _ _ _
  have HT5 : Hid (Box2 w5 bt 26 (.int .i64 m) (.slice va n vc)) := HT3.out.stays hb35
  have HX5 : Hid (Flds w5 va n xs) := HX3.out.below hb35
  have HL5 : Hid (Flds w5 (some ⟨g, 0, none⟩) k l) := HL3.out.below hb35
  have HQ5 : Hid (Seg w5 aq ql q) := hoq.seg.below hb45
  have HQc : Hid (ql ≤ cq) := hoq.cap
  have HY5 : Hid (Flds w5 ay n4 ys) := hoy.flds.below hb45
  have HB5 : Hid (Below w.heap.size w w5) := HB3.out.trans (hb35.mono HB3.out.size)
  obtain ⟨e0, e1, _, _⟩ := HT5.out.cells
  clear hput hfit hoq hoy hb4 hb45 hb35 hql hyl HT3 HX3 HL3 HB3 b0 b1
  go_wp2_with fail
  clear hw5
  generalize w4.heap.size = bm at *
  refine (implGetFs_any m va n vc xs 4096 aq ql cq q w5 HX5.out HQ5.out HQc.out hall2 (by omega)).mono ?_
  rintro e w6 ⟨gs, m6, ys6, code, fa, fc, a6, n6, c6, rfl, hans, hof, hot, hb6⟩
  obtain ⟨hoky, hrun⟩ := puts_run HOk.out (fun f hf => ⟨by have := (HL40.out f hf).1; omega, by have := (HL40.out f hf).2; omega⟩) (by have := hlk.out; omega) 4096 HPut.out (by have := hlk.out; omega)
  have hr2 := hrun []
  rw [List.append_nil, bytes_of_puts HPut.out hlk.out.symm] at hr2
  obtain ⟨rfl, rfl, rfl, rfl⟩ := hans.good HQr.out HOk.out (by omega) (by omega) hr2
  obtain rfl : n6 = n4 := by rw [← hot.len, ← HY5.out.1]
  have HOky : Hid (okT m6 ys6 = true) := hoky
  rw [hlk.out] at hof ⊢
  obtain ⟨w7, hw7⟩ : ∃ w7, w6.alloc (.cells #[.int .i64 m6, .slice a6 n6 c6] 26) = w7 := ⟨_, rfl⟩
  have hb67 : Below w6.heap.size w6 w7 := by rw [← hw7]; exact (Below.refl _ _).alloc (Nat.le_refl _) _
  have hb57 : Below w5.heap.size w5 w7 := hb6.trans (hb67.mono hb6.size)
  have HO7 : Hid (Box2 w7 w6.heap.size 26 (.int .i64 m6) (.slice a6 n6 c6)) := by show Box2 _ _ _ _ _; rw [← hw7]; exact Box2.new _ _ _ _
  have HM7 : Hid (Box2 w7 bm 26 (.int .i64 m6) (.slice ay n6 cy)) := HM5.out.stays hb57
  have HF7 : Hid (Flds w7 fa k gs) := hof.flds.below hb67
  have HZ7 : Hid (Flds w7 a6 n6 ys6) := hot.flds.below hb67
  have HL7 : Hid (Flds w7 (some ⟨g, 0, none⟩) k gs) := HL5.out.below hb57
  have HY7 : Hid (Flds w7 ay n6 ys6) := HY5.out.below hb57
  have HB7 : Hid (Below w.heap.size w w7) := HB5.out.trans (hb57.mono HB5.out.size)
  have hny2 : n6 ≤ 2097152 := by omega
  clear hans hof hot hb6 hb67 hb57 hrun hr2 hoky HT5 HX5 HL5 HQ5 HY5 HB5 HM5 e0 e1 HPut
  go_wp2_with fail
  clear hw7
  generalize w6.heap.size = bo at *
  refine (sameFields_same _ _ k fc cp gs w7 HF7.out HL7.out (by omega)).mono ?_
  rintro e w8 ⟨rfl, hb8⟩
  have HO8 : Hid (Box2 w8 bo 26 (.int .i64 m6) (.slice a6 n6 c6)) := HO7.out.stays hb8
  have HM8 : Hid (Box2 w8 bm 26 (.int .i64 m6) (.slice ay n6 cy)) := HM7.out.stays hb8
  have HZ8 : Hid (Flds w8 a6 n6 ys6) := HZ7.out.below hb8
  have HY8 : Hid (Flds w8 ay n6 ys6) := HY7.out.below hb8
  have HB8 : Hid (Below w.heap.size w w8) := HB7.out.trans (hb8.mono HB7.out.size)
  clear hb8 HO7 HM7 HF7 HZ7 HL7 HY7 HB7
  obtain ⟨d0, d1, _, _⟩ := HO8.out.cells
  obtain ⟨c0, c1, _, _⟩ := HM8.out.cells
  go_wp2_with fail
  refine (sameFields_same _ _ n6 cy c6 ys6 w8 HY8.out HZ8.out hny2).mono ?_
  rintro e w9 ⟨rfl, hb9⟩
  have HO9 : Hid (Box2 w9 bo 26 (.int .i64 m6) (.slice a6 n6 c6)) := HO8.out.stays hb9
  have HM9 : Hid (Box2 w9 bm 26 (.int .i64 m6) (.slice ay n6 cy)) := HM8.out.stays hb9
  have HY9 : Hid (Flds w9 ay n6 ys6) := HY8.out.below hb9
  have HB9 : Hid (Below w.heap.size w w9) := HB8.out.trans (hb9.mono HB8.out.size)
  clear hb9 HO8 HM8 HZ8 HY8 HB8 c0 c1 d0 d1
  obtain ⟨d0, d1, _, _⟩ := HO9.out.cells
  obtain ⟨c0, c1, _, _⟩ := HM9.out.cells
  have heq : (m6 == m6) = true := by simp
  go_wp2_with fail
  refine (implOk_any m6 ay n6 cy ys6 w9 HY9.out hny).mono ?_
  rintro e w10 ⟨rfl, hb10⟩
  rw [HOky.out]
  have HB10 : Hid (Below w.heap.size w w10) := HB9.out.trans (hb10.mono HB9.out.size)
  clear hb10
  go_wp2_with fail
  go_ret
  exact ⟨rfl, HB10.out⟩

end Go.Proofs.Ytghakpcagacdaac
