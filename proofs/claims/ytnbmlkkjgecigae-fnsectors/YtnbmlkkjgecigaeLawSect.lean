/- The law that behind a fall each sector of a drawn disk is as it was made sure, or as it was, as is kept; and that nothing of what was made sure is lost. -/
import Derived.Test.YtnbmlkkjgecigaeDrawFallP
import Derived.Test.YtnbmlkkjgecigaeDskFallI
import Derived.Test.YtnbmlkkjgecigaeSecAtI
import Derived.Test.YtnbmlkkjgecigaeLawBig
import Derived.Deep.QuietTactic
namespace Go.Proofs.Ytnbmlkkjgecigae
open Go.RowKit
set_option linter.unusedVariables false

theorem fallL_ok {xs ys : List ByteArray} {ks : List Bool} (h : okD xs ys = true) : okD (fallL xs ys ks) (fallL xs ys ks) = true := by
  obtain ⟨h1, h2, h3, h4⟩ := okD_iff.1 h
  have hall : ∀ x ∈ fallL xs ys ks, x.size ≤ 64 := by
    intro x hx
    obtain ⟨k, hk, rfl⟩ := List.mem_iff_getElem.1 hx
    rw [fallL_len] at hk
    have e := fallL_at (ks := ks) (List.getElem?_eq_getElem hk) (List.getElem?_eq_getElem (l := ys) (i := k) (by omega))
    have e2 := List.getElem?_eq_getElem (l := fallL xs ys ks) (i := k) (by rw [fallL_len]; exact hk)
    rw [e2] at e
    injection e with e
    rw [e]
    split
    · exact h3 _ (List.getElem_mem hk)
    · exact h4 _ (List.getElem_mem _)
  exact okD_iff.2 ⟨rfl, by rw [fallL_len]; exact h2, hall, hall⟩

theorem fallL_none (xs : List ByteArray) : fallL xs xs [] = xs := by
  apply List.ext_getElem?
  intro k
  by_cases hk : k < xs.length
  · rw [fallL_at (List.getElem?_eq_getElem hk) (List.getElem?_eq_getElem hk)]
    simp [hk]
  · rw [List.getElem?_eq_none (by rw [fallL_len]; omega), List.getElem?_eq_none (by omega)]

theorem fallX_n (xs ys : List ByteArray) (ks : List Bool) : (fallX xs ys ks).length = xs.length := by
  rw [fallX]
  split
  · rw [fallL_len]
  · rfl

theorem okD_self {xs ys : List ByteArray} (h : okD xs ys = true) : okD xs xs = true := by
  obtain ⟨h1, h2, h3, h4⟩ := okD_iff.1 h
  exact okD_iff.2 ⟨rfl, h2, h3, h3⟩

theorem secAt_at {xs : List ByteArray} {k : Nat} {x : ByteArray} (h : xs[k]? = some x) : secAt xs (k : Int) = x := by
  have hk : k < xs.length := (List.getElem?_eq_some_iff.1 h).1
  rw [secAt, if_pos ⟨by omega, by omega⟩, Int.toNat_natCast, List.getD_eq_getElem?_getD, h]
  rfl

set_option maxRecDepth 10000 in
set_option maxHeartbeats 3200000 in
theorem lawSect_any (a : Option Addr) (len cap : Nat) (zs : List Int) (w : World) (hm : len ≤ maxLen) (hs : Seg w a len zs) :
    Calls Try.prog 3 #[.slice a len cap] w fun e w' => e = .returned (.bool true) ∧ Below w.heap.size w w' := by
  have HS : Hid (Seg w a len zs) := hs
  clear hs
  by_cases hbig : (1048576 : Int) < (len : Int)
  · have hd : Hid (decide ((1048576 : Int) < (len : Int)) = true) := by show _ = _; simpa using hbig
    go_enter Try.func3, Try.ntmps3
    go_wp2_with fail
    refine (big_any a len cap w hm).mono ?_
    rintro e w1 ⟨rfl, hw1⟩
    subst w1
    rw [hd.out]
    go_wp2_with fail
    go_ret
    exact ⟨rfl, Below.refl _ _⟩
  have hd : Hid (decide ((1048576 : Int) < (len : Int)) = false) := by show _ = _; simpa using hbig
  have hl : len ≤ 1099511627776 := by omega
  clear hbig
  go_enter Try.func3, Try.ntmps3
  go_wp2_with fail
  refine (big_any a len cap w hm).mono ?_
  rintro e w1 ⟨rfl, hw1⟩
  subst w1
  rw [hd.out]
  go_wp2_with fail
  refine (drawFall_any a len cap zs w HS.out hl).mono ?_
  rintro e w2 ⟨⟨v, rfl, A, n, C, A', n', C', X, Y, K, m, E, l, rfl, hn, hn', hm8, hX, hY, hK⟩, hb2⟩
  have HB3 : Hid (Below w.heap.size w (w2.alloc (.cells #[.slice A n C, .slice A' n' C'] 26))) := hb2.alloc hb2.size _
  have HQ3 : Hid (Box2R (w2.alloc (.cells #[.slice A n C, .slice A' n' C'] 26)) w2.heap.size 26 (.slice A n C) (.slice A' n' C')) := Box2R.new _ _ _ _
  have h23 : Below w2.heap.size w2 (w2.alloc (.cells #[.slice A n C, .slice A' n' C'] 26)) := (Below.refl _ _).alloc (Nat.le_refl _) _
  have HX3 : Hid (Strs (w2.alloc (.cells #[.slice A n C, .slice A' n' C'] 26)) A n X ∧ Strs (w2.alloc (.cells #[.slice A n C, .slice A' n' C'] 26)) A' n' Y ∧ Bools (w2.alloc (.cells #[.slice A n C, .slice A' n' C'] 26)) K m l) := ⟨hX.below h23, hY.below h23, hK.below h23⟩
  have HLn : Hid (X.length = n ∧ Y.length = n' ∧ l.length = m) := ⟨hX.1, hY.1, hK.1⟩
  clear hX hY hK hb2 h23
  go_wp2_with fail
  obtain ⟨w3, hw3⟩ : ∃ w3, w2.alloc (.cells #[.slice A n C, .slice A' n' C'] 26) = w3 := ⟨_, rfl⟩
  rw [hw3] at HB3 HQ3 HX3 ⊢
  clear hw3
  generalize w2.heap.size = b at *
  refine (implFall_any A n C X A' n' C' Y K m E l w3 HX3.out.1 HX3.out.2.1 HX3.out.2.2 (by omega) (by omega) (by omega)).mono ?_
  rintro e w4 ⟨⟨v, rfl, hans⟩, hb4⟩
  obtain ⟨ny, hny⟩ : ∃ ny, (fallY X Y l).length = ny := ⟨_, rfl⟩
  obtain ⟨P, D, P', D', rfl, o1, o2, hap⟩ := hans.at (n := n) (n' := ny) (by rw [fallX_n]; exact HLn.out.1) hny
  have HB5 : Hid (Below w.heap.size w (w4.alloc (.cells #[.slice P n D, .slice P' ny D'] 26))) := (HB3.out.trans (hb4.mono HB3.out.size)).alloc (HB3.out.trans (hb4.mono HB3.out.size)).size _
  have h45 : Below w4.heap.size w4 (w4.alloc (.cells #[.slice P n D, .slice P' ny D'] 26)) := (Below.refl _ _).alloc (Nat.le_refl _) _
  have h35 := hb4.trans (h45.mono hb4.size)
  have HQ5 : Hid (Box2R (w4.alloc (.cells #[.slice P n D, .slice P' ny D'] 26)) b 26 (.slice A n C) (.slice A' n' C')) := HQ3.out.stays h35
  have HP5 : Hid (Box2R (w4.alloc (.cells #[.slice P n D, .slice P' ny D'] 26)) w4.heap.size 26 (.slice P n D) (.slice P' ny D')) := Box2R.new _ _ _ _
  have HX5 : Hid (Strs (w4.alloc (.cells #[.slice P n D, .slice P' ny D'] 26)) A n X ∧ Strs (w4.alloc (.cells #[.slice P n D, .slice P' ny D'] 26)) A' n' Y ∧ Bools (w4.alloc (.cells #[.slice P n D, .slice P' ny D'] 26)) K m l ∧ Strs (w4.alloc (.cells #[.slice P n D, .slice P' ny D'] 26)) P n (fallX X Y l) ∧ Strs (w4.alloc (.cells #[.slice P n D, .slice P' ny D'] 26)) P' ny (fallY X Y l)) := ⟨HX3.out.1.below h35, HX3.out.2.1.below h35, HX3.out.2.2.below h35, o1.strs.below h45, o2.strs.below h45⟩
  obtain ⟨c0, c1⟩ := HQ5.out.cells
  clear hans o1 o2 hap hb4 h45 h35 HB3 HQ3 HX3
  go_wp2_with fail
  obtain ⟨w5, hw5⟩ : ∃ w5, w4.alloc (.cells #[.slice P n D, .slice P' ny D'] 26) = w5 := ⟨_, rfl⟩
  rw [hw5] at HB5 HQ5 HP5 HX5 c0 c1 ⊢
  clear hw5
  generalize w4.heap.size = p at *
  refine (specDok_any A n C X A' n' C' Y w5 HX5.out.1 HX5.out.2.1 (by omega) (by omega)).mono ?_
  rintro e w6 ⟨rfl, hb6⟩
  have HB6 : Hid (Below w.heap.size w w6) := HB5.out.trans (hb6.mono HB5.out.size)
  have HQ6 : Hid (∀ W, Below w6.heap.size w6 W → Box2R W b 26 (.slice A n C) (.slice A' n' C') ∧ Box2R W p 26 (.slice P n D) (.slice P' ny D')) := fun W h => ⟨(HQ5.out.stays hb6).stays h, (HP5.out.stays hb6).stays h⟩
  have HX6 : Hid (∀ W, Below w6.heap.size w6 W → Strs W A n X ∧ Strs W A' n' Y ∧ Bools W K m l ∧ Strs W P n (fallX X Y l) ∧ Strs W P' ny (fallY X Y l)) := fun W h => ⟨(HX5.out.1.below hb6).below h, (HX5.out.2.1.below hb6).below h, (HX5.out.2.2.1.below hb6).below h, (HX5.out.2.2.2.1.below hb6).below h, (HX5.out.2.2.2.2.below hb6).below h⟩
  clear hb6 HB5 HQ5 HP5 HX5 c0 c1
  cases hok : okD X Y
  · obtain ⟨c0, c1⟩ := (HQ6.out _ (Below.refl _ _)).1.cells
    go_wp2_with fail
    refine (implDok_any A n C X A' n' C' Y w6 (HX6.out _ (Below.refl _ _)).1 (HX6.out _ (Below.refl _ _)).2.1 (by omega) (by omega)).mono ?_
    rintro e w7 ⟨rfl, hb7⟩
    rw [hok]
    have HB7 : Hid (Below w.heap.size w w7) := HB6.out.trans (hb7.mono HB6.out.size)
    obtain ⟨e0, e1⟩ := (HQ6.out _ hb7).1.cells
    obtain ⟨p0, p1⟩ := (HQ6.out _ hb7).2.cells
    have hnn : ((n : Int) == (n : Int)) = true := by simp
    clear hb7 c0 c1 HX6 HQ6
    go_wp2_with fail
    go_ret
    exact ⟨rfl, HB7.out⟩
  obtain ⟨hx1, hx2, hx3, hx4⟩ := okD_iff.1 hok
  obtain rfl : n' = n := by have := HLn.out; omega
  obtain rfl : ny = n' := by rw [← hny, fallY, hok, if_pos rfl, fallL_len]; exact HLn.out.1
  have HFx : Hid (fallX X Y l = fallL X Y l) := by show _ = _; rw [fallX, hok]; rfl
  have HFy : Hid (fallY X Y l = fallL X Y l) := by show _ = _; rw [fallY, hok]; rfl
  have HFa : Hid (∀ (k : Nat) (x y : ByteArray), X[k]? = some x → Y[k]? = some y → (fallL X Y l)[k]? = some (if l.getD k false then x else y)) := fun k x y h1 h2 => fallL_at h1 h2
  have HFo : Hid (okD (fallL X Y l) (fallL X Y l) = true ∧ okD X X = true) := ⟨fallL_ok hok, okD_self hok⟩
  rw [HFx.out, HFy.out] at HX6
  clear HFx HFy hx1 hx2 hx3 hx4 hok hny
  generalize fallL X Y l = F at *
  obtain ⟨c0, c1⟩ := (HQ6.out _ (Below.refl _ _)).1.cells
  go_wp2_with fail
  clear c0 c1
  go_loopw [6] (fun v wr => ∃ k : Nat, k ≤ ny ∧ v = .int .i64 k ∧ Hid (Below w6.heap.size w6 wr)) (fun v _ => ny - (intOf v).toNat)
  case atStart => exact ⟨0, Nat.zero_le _, rfl, Below.refl _ _⟩
  case round =>
    obtain ⟨k, hk, rfl, HW⟩ := hrel
    obtain ⟨c0, c1⟩ := (HQ6.out _ HW.out).1.cells
    obtain ⟨d0, d1⟩ := (HQ6.out _ HW.out).2.cells
    by_cases hlt : k < ny
    · obtain ⟨q, qo, x, hA, _, hkx, hq⟩ := (HX6.out _ HW.out).1.at hlt
      obtain ⟨q', qo', y, hA', _, hky, hq'⟩ := (HX6.out _ HW.out).2.1.at hlt
      subst hA hA'
      have HC := (show Hid _ from HFa.out k x y hkx hky)
      have hki : (k : Int) < (ny : Int) := by omega
      have hk0 : (0 : Int) ≤ (k : Int) := by omega
      have hP := (HX6.out _ HW.out).2.2.2
      clear hkx hky
      by_cases hkm : k < m
      · obtain ⟨kb, ko, bb, hK, _, hkb, hcb⟩ := (HX6.out _ HW.out).2.2.1.at hkm
        subst hK
        have hkmi : (k : Int) < (m : Int) := by omega
        cases bb
        · have HFk : Hid (F[k]? = some y) := by
            have h := HC.out
            rw [List.getD_eq_getElem?_getD, hkb] at h
            exact h
          have hsec := secAt_at HFk.out
          generalize hyf : y = f at *
          clear hkb
          clear HC
          go_wp2_with fail
          refine (implSec_any P ny D F P' ny D' (k : Int) _ hP.1 (by omega)).mono ?_
          rintro e w8 ⟨rfl, hb8⟩
          rw [hsec]
          have hb68 := HW.out.trans (hb8.mono HW.out.size)
          obtain ⟨s0, s1⟩ := (HQ6.out _ hb68).2.cells
          obtain ⟨gy, goy, fy, hPy, _, hky, hgy⟩ := (HX6.out _ hb68).2.2.2.2.at hlt
          obtain rfl : fy = f := Option.some.inj (hky.symm.trans HFk.out)
          subst hPy
          have HW8 : Hid (Below w6.heap.size w6 w8) := hb68
          clear hb8 hb68 hky
          go_wp2_with fail
          go_roundw
          case rel => exact ⟨k + 1, by omega, by go_num, HW8⟩
          case measure => simp [intOf]; omega
        · have HFk : Hid (F[k]? = some x) := by
            have h := HC.out
            rw [List.getD_eq_getElem?_getD, hkb] at h
            exact h
          have hsec := secAt_at HFk.out
          generalize hxf : x = f at *
          clear hkb
          clear HC
          go_wp2_with fail
          refine (implSec_any P ny D F P' ny D' (k : Int) _ hP.1 (by omega)).mono ?_
          rintro e w8 ⟨rfl, hb8⟩
          rw [hsec]
          have hb68 := HW.out.trans (hb8.mono HW.out.size)
          obtain ⟨s0, s1⟩ := (HQ6.out _ hb68).2.cells
          obtain ⟨gy, goy, fy, hPy, _, hky, hgy⟩ := (HX6.out _ hb68).2.2.2.2.at hlt
          obtain rfl : fy = f := Option.some.inj (hky.symm.trans HFk.out)
          subst hPy
          have HW8 : Hid (Below w6.heap.size w6 w8) := hb68
          clear hb8 hb68 hky
          go_wp2_with fail
          go_roundw
          case rel => exact ⟨k + 1, by omega, by go_num, HW8⟩
          case measure => simp [intOf]; omega
      · have HFk : Hid (F[k]? = some y) := by
          have h := HC.out
          have e : l[k]? = none := List.getElem?_eq_none (by have := HLn.out; omega)
          rw [List.getD_eq_getElem?_getD, e] at h
          exact h
        have hsec := secAt_at HFk.out
        generalize hyf : y = f at *
        have hkmi : ¬ (k : Int) < (m : Int) := by omega
        clear HC
        go_wp2_with fail
        refine (implSec_any P ny D F P' ny D' (k : Int) _ hP.1 (by omega)).mono ?_
        rintro e w8 ⟨rfl, hb8⟩
        rw [hsec]
        have hb68 := HW.out.trans (hb8.mono HW.out.size)
        obtain ⟨s0, s1⟩ := (HQ6.out _ hb68).2.cells
        obtain ⟨gy, goy, fy, hPy, _, hky, hgy⟩ := (HX6.out _ hb68).2.2.2.2.at hlt
        obtain rfl : fy = f := Option.some.inj (hky.symm.trans HFk.out)
        subst hPy
        have HW8 : Hid (Below w6.heap.size w6 w8) := hb68
        clear hb8 hb68 hky
        go_wp2_with fail
        go_roundw
        case rel => exact ⟨k + 1, by omega, by go_num, HW8⟩
        case measure => simp [intOf]; omega
    · have hkl : k = ny := by omega
      clear HFa
      subst hkl
      go_wp2_with fail
      refine (implFlush_any A k C X A' k C' wr (HX6.out _ HW.out).1 (by omega)).mono ?_
      rintro e w8 ⟨⟨v, rfl, hans⟩, hb8⟩
      obtain ⟨G, gC, G', gC', rfl, o1, o2, hap⟩ := hans.at (n := k) (n' := k) HLn.out.1 HLn.out.1
      have hb68 := HW.out.trans (hb8.mono HW.out.size)
      have h89 : Below w8.heap.size w8 (w8.alloc (.cells #[] 4)) := (Below.refl _ _).alloc (Nat.le_refl _) _
      have HB69 : Hid (Below w6.heap.size w6 (w8.alloc (.cells #[] 4))) := hb68.trans (h89.mono hb68.size)
      have HG9 : Hid (Strs (w8.alloc (.cells #[] 4)) G k X ∧ Strs (w8.alloc (.cells #[] 4)) G' k X) := ⟨o1.strs.below h89, o2.strs.below h89⟩
      clear hans o1 o2 hap hb8 hb68 h89 c0 c1 d0 d1
      go_wp2_with fail
      obtain ⟨w9, hw9⟩ : ∃ w9, w8.alloc (.cells #[] 4) = w9 := ⟨_, rfl⟩
      rw [hw9] at HB69 HG9 ⊢
      clear hw9
      refine (implFall_any G k gC X G' k gC' X _ 0 0 [] w9 HG9.out.1 HG9.out.2 (Bools.nil _ _) (by omega) (by omega) (by omega)).mono ?_
      rintro e w10 ⟨⟨v, rfl, hans⟩, hb10⟩
      have hfx : fallX X X [] = X := by rw [fallX, HFo.out.2, if_pos rfl]; exact fallL_none X
      have hfy : fallY X X [] = X := by rw [fallY, HFo.out.2, if_pos rfl]; exact fallL_none X
      rw [hfx, hfy] at hans
      obtain ⟨R, rC, R', rC', rfl, o1, o2, hap⟩ := hans.at (n := k) (n' := k) HLn.out.1 HLn.out.1
      have hb610 := HB69.out.trans (hb10.mono HB69.out.size)
      have h1011 : Below w10.heap.size w10 (w10.alloc (.cells #[.slice R k rC, .slice R' k rC'] 26)) := (Below.refl _ _).alloc (Nat.le_refl _) _
      have HB11 : Hid (Below w6.heap.size w6 (w10.alloc (.cells #[.slice R k rC, .slice R' k rC'] 26))) := hb610.trans (h1011.mono hb610.size)
      have HR11 : Hid (Box2R (w10.alloc (.cells #[.slice R k rC, .slice R' k rC'] 26)) w10.heap.size 26 (.slice R k rC) (.slice R' k rC')) := Box2R.new _ _ _ _
      have HS11 : Hid (Strs (w10.alloc (.cells #[.slice R k rC, .slice R' k rC'] 26)) R k X) := o1.strs.below h1011
      clear hans o1 o2 hap hb10 hb610 h1011 hfx hfy HB69 HG9 HW
      obtain ⟨c0, c1⟩ := (HQ6.out _ HB11.out).1.cells
      go_wp2_with fail
      obtain ⟨w11, hw11⟩ : ∃ w11, w10.alloc (.cells #[.slice R k rC, .slice R' k rC'] 26) = w11 := ⟨_, rfl⟩
      rw [hw11] at HB11 HR11 HS11 c0 c1 ⊢
      clear hw11 c0 c1
      generalize w10.heap.size = r at *
      go_loopw [9] (fun v wr => ∃ j : Nat, j ≤ k ∧ v = .int .i64 j ∧ Hid (Below w11.heap.size w11 wr)) (fun v _ => k - (intOf v).toNat)
      case atStart => exact ⟨0, Nat.zero_le _, rfl, Below.refl _ _⟩
      case round =>
        obtain ⟨j, hj, rfl, HV⟩ := hrel
        have hb := HB11.out.trans (HV.out.mono HB11.out.size)
        obtain ⟨c0, c1⟩ := (HQ6.out _ hb).1.cells
        obtain ⟨d0, d1⟩ := (HQ6.out _ hb).2.cells
        obtain ⟨g0, g1⟩ := (HR11.out.stays HV.out).cells
        by_cases hlt2 : j < k
        · obtain ⟨q, qo, x, hA, _, hkx, hq⟩ := (HX6.out _ hb).1.at hlt2
          obtain ⟨q', qo', y, hR, _, hky, hq'⟩ := (HS11.out.below HV.out).at hlt2
          subst hA hR
          obtain rfl : y = x := Option.some.inj (hky.symm.trans hkx)
          have hji : (j : Int) < (k : Int) := by omega
          have hj0 : (0 : Int) ≤ (j : Int) := by omega
          clear hkx hky hb
          go_wp2_with fail
          go_quiet (fail)
          go_wp2_with fail
          go_roundw
          case rel => exact ⟨j + 1, by omega, by go_num, below_drewN HV.out _⟩
          case measure => simp [intOf]; omega
        · obtain rfl : j = k := by omega
          have HB12 : Hid (Below w6.heap.size w6 wr) := hb
          clear hb
          go_wp2_with fail
          refine (implDok_any P j D F P' j D' F wr (HX6.out _ HB12.out).2.2.2.1 (HX6.out _ HB12.out).2.2.2.2 (by omega) (by omega)).mono ?_
          rintro e w13 ⟨rfl, hb13⟩
          rw [HFo.out.1]
          have HB13 : Hid (Below w6.heap.size w6 w13) := HB12.out.trans (hb13.mono HB12.out.size)
          clear hb13 c0 c1 d0 d1 g0 g1
          obtain ⟨c0, c1⟩ := (HQ6.out _ HB13.out).1.cells
          obtain ⟨d0, d1⟩ := (HQ6.out _ HB13.out).2.cells
          have hnn : ((j : Int) == (j : Int)) = true := by simp
          go_wp2_with fail
          go_ret
          exact ⟨rfl, HB6.out.trans (HB13.out.mono HB6.out.size)⟩

end Go.Proofs.Ytnbmlkkjgecigae
