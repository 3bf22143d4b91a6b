/- What the specification's FallDisk answers. -/
import Derived.Test.YtpjldfpipchmjavGreatDoorM23
import Derived.Test.YtpjldfpipchmjavGreatDoorC04
import Derived.Test.YtpjldfpipchmjavGreatDoorM16
import Derived.Test.YtpjldfpipchmjavGreatDoorC03
import Derived.Test.YtpjldfpipchmjavGreatDoorC01
import Derived.Deep.CutBlock
import Derived.Deep.RegionHeld3
namespace Go.Proofs.YtpjldfpipchmjavGreatDoor
open Go.RowKit
set_option linter.unusedVariables false

theorem blkOf_sF (a : Option Addr) (n c : Nat) : blkOf (.slice a n c) = a.map (·.block) := by cases a <;> rfl

set_option maxRecDepth 10000 in
set_option maxHeartbeats 3200000 in
theorem specFall_any (a : Option Addr) (n ca : Nat) (xs : List ByteArray) (a' : Option Addr) (n' ca' : Nat) (ys : List ByteArray) (ka : Option Addr) (m kc : Nat) (ks : List Bool) (w : World) (h1 : Strs w a n xs) (h2 : Strs w a' n' ys) (h3 : Bools w ka m ks) (hn : n ≤ 2097152) (hn' : n' ≤ 2097152) (hm : m ≤ 1099511627776) :
    Calls Tryz.prog 57 #[.agg #[.slice a n ca, .slice a' n' ca'], .slice ka m kc] w fun e w' => (∃ v, e = .returned v ∧ AnsD w.heap.size (fallX xs ys ks) (fallY xs ys ks) v w') ∧ Below w.heap.size w w' := by
  have HK : Hid (∀ W, Below w.heap.size w W → Bools W ka m ks) := fun W h => h3.below h
  have HKl : Hid (ks.length = m) := h3.1
  clear h3
  have HX : Hid (∀ W, Below w.heap.size w W → Strs W a n xs ∧ Strs W a' n' ys) := fun W h => ⟨h1.below h, h2.below h⟩
  have HLn : Hid (xs.length = n ∧ ys.length = n') := ⟨h1.1, h2.1⟩
  obtain ⟨W2, hW2⟩ : ∃ W2, (w.alloc (.cells #[.slice a n ca, .slice a' n' ca'] 33)).alloc (.cells #[.slice none 0 0, .slice none 0 0] 33) = W2 := ⟨_, rfl⟩
  have HE : Hid ((w.alloc (.cells #[.slice a n ca, .slice a' n' ca'] 33)).alloc (.cells #[.slice none 0 0, .slice none 0 0] 33) = W2) := hW2
  have HB2 : Hid (Below w.heap.size w W2) := by show Below _ _ _; rw [← hW2]; exact ((Below.refl _ _).alloc (Nat.le_refl _) _).alloc (by simp) _
  have HZ2 : Hid (W2.heap.size = w.heap.size + 2) := by show _ = _; rw [← hW2]; simp
  have HQ1 : Hid (Box2R W2 w.heap.size 33 (.slice a n ca) (.slice a' n' ca')) := by show Box2R _ _ _ _ _; rw [← hW2]; exact (Box2R.new _ _ _ _).alloc _
  have HQ2 : Hid (Box2R W2 (w.heap.size + 1) 33 (.slice none 0 0) (.slice none 0 0)) := by
    show Box2R _ _ _ _ _
    rw [← hW2]
    have := Box2R.new (w.alloc (.cells #[.slice a n ca, .slice a' n' ca'] 33)) 33 (.slice none 0 0) (.slice none 0 0)
    rwa [World.size_alloc] at this
  clear hW2 h1 h2
  go_enter Tryz.func57, Tryz.ntmps57
  go_upto_region 1 with fail
  rw [HE.out]
  clear HE
  obtain ⟨c0, c1⟩ := HQ1.out.cells
  go_wp2_with fail
  refine (specDcopy_any a n ca xs a' n' ca' ys _ (HX.out _ HB2.out).1 (HX.out _ HB2.out).2 hn hn').mono ?_
  rintro e x3 ⟨⟨v, rfl, A, C, A', C', rfl, o1, o2, hap⟩, hb3⟩
  rw [HLn.out.1] at o1 ⊢
  rw [HLn.out.2] at o2 ⊢
  have HD : Hid (DOut w (x3.alloc (.cells #[.slice A n C, .slice A' n' C'] 33)) (.slice a n ca) (.slice a' n' ca') x3.heap.size (.slice A n C) (.slice A' n' C') n n' xs ys) := DOut.new HQ1.out HQ2.out HZ2.out HB2.out hb3 o1 o2 (fun q e e2 => by rw [blkOf_sF] at e e2; exact hap q e e2)
  clear o1 o2 hap hb3 HQ1 HQ2 HB2 HZ2 c0 c1
  go_upto_region 2 with fail
  obtain ⟨W3, hW3⟩ : ∃ W3, x3.alloc (.cells #[.slice A n C, .slice A' n' C'] 33) = W3 := ⟨_, rfl⟩
  rw [hW3] at HD ⊢
  clear hW3
  generalize x3.heap.size = o at *
  obtain ⟨c0, c1⟩ := HD.out.1.cells
  go_wp2_with fail
  refine (specDok_any a n ca xs a' n' ca' ys _ (HX.out _ HD.out.2.2.2.2.2.2.2.2).1 (HX.out _ HD.out.2.2.2.2.2.2.2.2).2 (by omega) (by omega)).mono ?_
  rintro e x4 ⟨rfl, hb4⟩
  have HDx : Hid (DOut w x4 (.slice a n ca) (.slice a' n' ca') o (.slice A n C) (.slice A' n' C') n n' xs ys) := HD.out.stays hb4
  clear hb4 HD c0 c1
  cases hok : okD xs ys
  · have HPX : Hid (fallX xs ys ks = xs) := by show _ = _; rw [fallX, hok]; rfl
    have HPY : Hid (fallY xs ys ks = ys) := by show _ = _; rw [fallY, hok]; rfl
    clear hok
    obtain ⟨c0, c1⟩ := HDx.out.2.2.1.cells
    obtain ⟨r0, r1⟩ := HDx.out.2.1.cells
    have f0 := HDx.out.2.1.frozen 0
    have f1 := HDx.out.2.1.frozen 1
    have HR := (show Hid _ from HDx.out.done)
    clear HDx
    go_wp2_with fail
    refine bodyPost_ret (v := .agg #[.slice A n C, .slice A' n' C']) (by simp [results, Tryz.f57, go_sem, r0, r1]) rfl ?_
    exact ⟨⟨_, rfl, by rw [HPX.out, HPY.out]; exact HR.out.1⟩, HR.out.2⟩
  obtain rfl : n = n' := by
    have h := (okD_iff.1 hok).1
    have := HLn.out
    omega
  have HPX : Hid (fallX xs ys ks = fallL xs ys ks) := by show _ = _; rw [fallX, hok]; rfl
  have HPY : Hid (fallY xs ys ks = fallL xs ys ks) := by show _ = _; rw [fallY, hok]; rfl
  have HFl : Hid ((fallL xs ys ks).length = xs.length ∧ (fallL xs ys ks).length = ys.length) := ⟨fallL_len _ _ _, (fallL_len _ _ _).trans (okD_iff.1 hok).1⟩
  have HFa : Hid (∀ (k : Nat) (x y : ByteArray), xs[k]? = some x → ys[k]? = some y → (fallL xs ys ks)[k]? = some (if ks.getD k false then x else y)) := fun k x y h1 h2 => fallL_at h1 h2
  clear hok
  generalize fallL xs ys ks = F at *
  obtain ⟨c0, c1⟩ := HDx.out.2.2.1.cells
  go_wp2_with fail
  clear c0 c1
  go_loopw [6] (fun i wr => ∃ k : Nat, k ≤ n ∧ i = .int .i64 (k : Int) ∧ Hid (DOut w wr (.slice a n ca) (.slice a' n ca') o (.slice A n C) (.slice A' n C') n n (fallTo F xs k) (fallTo F ys k))) (fun i _ => n - (intOf i).toNat)
  case atStart => exact ⟨0, Nat.zero_le _, rfl, by rw [fallTo_zero, fallTo_zero]; exact HDx⟩
  case round =>
    clear HDx
    obtain ⟨k, hk, rfl, HDk⟩ := hrel
    obtain ⟨c0, c1⟩ := HDk.out.2.2.1.cells
    by_cases hlt : k < n
    · obtain ⟨g, rfl⟩ : ∃ g, A = some ⟨g, 0, none⟩ := by
        rcases HDk.out.2.2.2.1.1.2 with ⟨_, h0⟩ | ⟨g, cap', cur, he, _⟩
        · omega
        · injection he with e1 _ _
          exact ⟨g, e1⟩
      obtain ⟨g', rfl⟩ : ∃ g, A' = some ⟨g, 0, none⟩ := by
        rcases HDk.out.2.2.2.2.1.1.2 with ⟨_, h0⟩ | ⟨g, cap', cur, he, _⟩
        · omega
        · injection he with e1 _ _
          exact ⟨g, e1⟩
      obtain ⟨x, hx⟩ : ∃ x, xs[k]? = some x := ⟨_, List.getElem?_eq_getElem (by have := HLn.out; omega)⟩
      obtain ⟨y, hy⟩ : ∃ y, ys[k]? = some y := ⟨_, List.getElem?_eq_getElem (by have := HLn.out; omega)⟩
      have HXY : Hid (xs[k]? = some x ∧ ys[k]? = some y) := ⟨hx, hy⟩
      have hxm : x.size ≤ maxLen := (HX.out w (Below.refl _ _)).1.2.1 x (List.mem_of_getElem? hx)
      have hym : y.size ≤ maxLen := (HX.out w (Below.refl _ _)).2.2.1 y (List.mem_of_getElem? hy)
      have hgx : wr.cell? ⟨g, k, none⟩ = some (.string x) := by
        rw [HDk.out.2.2.2.1.1.cellAt _ (by omega)]
        have h := fallTo_at F xs k HFl.out.1 (by have := HLn.out; omega)
        rw [hx] at h
        simp [scells, h]
      have hgy : wr.cell? ⟨g', k, none⟩ = some (.string y) := by
        rw [HDk.out.2.2.2.2.1.1.cellAt _ (by omega)]
        have h := fallTo_at F ys k HFl.out.2 (by have := HLn.out; omega)
        rw [hy] at h
        simp [scells, h]
      have HFk0 := (show Hid _ from HFa.out k x y hx hy)
      clear hx hy
      have hki : (k : Int) < (n : Int) := by omega
      have hk0 : (0 : Int) ≤ (k : Int) := by omega
      have hbel := HDk.out.2.2.2.2.2.2.2.2
      by_cases hkm : k < m
      case neg =>
        have HFk : Hid (F[k]? = some y) := by
          have h := HFk0.out
          have e : ks[k]? = none := List.getElem?_eq_none (by have := HKl.out; omega)
          rw [List.getD_eq_getElem?_getD, e] at h
          exact h
        have hkmi : ¬ (k : Int) < (m : Int) := by omega
        clear HFk0 hbel
        have HD2 : Hid (DOut w (wr.setCell ⟨g, k, none⟩ (.string y)) (.slice a n ca) (.slice a' n ca') o (.slice (some ⟨g, 0, none⟩) n C) (.slice (some ⟨g', 0, none⟩) n C') n n (fallTo F xs (k + 1)) (fallTo F ys (k + 1))) := by
          have h := HDk.out.put0 (j := k) y hym
          rw [fallTo_set F xs k y HFl.out.1 (by have := HLn.out; omega) HFk.out, fallTo_same F ys k y HFl.out.2 HXY.out.2 HFk.out] at h
          exact h
        have fz : wr.frozen? ⟨g, k, none⟩ = false := HDk.out.2.2.2.1.1.frozenAt _
        have ne1 : o ≠ g := (by have := (HDk.out.2.2.2.2.2.1 g rfl).1; omega)
        have ne2 : g' ≠ g := fun e => (HDk.out.2.2.2.2.2.1 g rfl).2 (by rw [← e]; rfl)
        clear HDk HXY HFk
        go_wp2_with fail
        go_region_held3 (fun W => W.cell? ⟨o, 0, none⟩ = some (.slice (some ⟨g, 0, none⟩) n C) ∧ W.cell? ⟨o, 1, none⟩ = some (.slice (some ⟨g', 0, none⟩) n C') ∧ W.cell? ⟨g', k, none⟩ = some (.string y)) (first | (refine ⟨?_, ?_, ?_⟩ <;> assumption) | (exact ⟨cellD_kept ne1 (by assumption), cellD_kept ne1 (by assumption), cellD_kept ne2 (by assumption)⟩) | go_keep) (fail)
        go_wp2_with fail
        go_roundw
        case rel => exact ⟨k + 1, by omega, by go_num, HD2.out.stays (Below.refl _ _).drew⟩
        case measure => simp [intOf]; omega
      obtain ⟨kb, ko, b, rfl, _, hkb, hcb⟩ := (HK.out _ hbel).at hkm
      have hkmi : (k : Int) < (m : Int) := by omega
      have HFk1 : Hid (F[k]? = some (if b then x else y)) := by
        have h := HFk0.out
        rw [List.getD_eq_getElem?_getD, hkb] at h
        exact h
      clear HFk0 hkb hbel
      cases b
      · have HFk : Hid (F[k]? = some y) := HFk1.out
        clear HFk1
        have HD2 : Hid (DOut w (wr.setCell ⟨g, k, none⟩ (.string y)) (.slice a n ca) (.slice a' n ca') o (.slice (some ⟨g, 0, none⟩) n C) (.slice (some ⟨g', 0, none⟩) n C') n n (fallTo F xs (k + 1)) (fallTo F ys (k + 1))) := by
          have h := HDk.out.put0 (j := k) y hym
          rw [fallTo_set F xs k y HFl.out.1 (by have := HLn.out; omega) HFk.out, fallTo_same F ys k y HFl.out.2 HXY.out.2 HFk.out] at h
          exact h
        have fz : wr.frozen? ⟨g, k, none⟩ = false := HDk.out.2.2.2.1.1.frozenAt _
        have ne1 : o ≠ g := (by have := (HDk.out.2.2.2.2.2.1 g rfl).1; omega)
        have ne2 : g' ≠ g := fun e => (HDk.out.2.2.2.2.2.1 g rfl).2 (by rw [← e]; rfl)
        clear HDk HXY HFk
        go_wp2_with fail
        go_region_held3 (fun W => W.cell? ⟨o, 0, none⟩ = some (.slice (some ⟨g, 0, none⟩) n C) ∧ W.cell? ⟨o, 1, none⟩ = some (.slice (some ⟨g', 0, none⟩) n C') ∧ W.cell? ⟨g', k, none⟩ = some (.string y)) (first | (refine ⟨?_, ?_, ?_⟩ <;> assumption) | (exact ⟨cellD_kept ne1 (by assumption), cellD_kept ne1 (by assumption), cellD_kept ne2 (by assumption)⟩) | go_keep) (fail)
        go_wp2_with fail
        go_roundw
        case rel => exact ⟨k + 1, by omega, by go_num, HD2.out.stays (Below.refl _ _).drew⟩
        case measure => simp [intOf]; omega
      · have HFk : Hid (F[k]? = some x) := HFk1.out
        clear HFk1
        have HD2 : Hid (DOut w (wr.setCell ⟨g', k, none⟩ (.string x)) (.slice a n ca) (.slice a' n ca') o (.slice (some ⟨g, 0, none⟩) n C) (.slice (some ⟨g', 0, none⟩) n C') n n (fallTo F xs (k + 1)) (fallTo F ys (k + 1))) := by
          have h := HDk.out.put1 (j := k) x hxm
          rw [fallTo_set F ys k x HFl.out.2 (by have := HLn.out; omega) HFk.out, fallTo_same F xs k x HFl.out.1 HXY.out.1 HFk.out] at h
          exact h
        have fz : wr.frozen? ⟨g', k, none⟩ = false := HDk.out.2.2.2.2.1.1.frozenAt _
        have ne1 : o ≠ g' := (by have := HDk.out.2.2.2.2.2.2.1 g' rfl; omega)
        have ne2 : g ≠ g' := fun e => (HDk.out.2.2.2.2.2.1 g rfl).2 (by rw [e]; rfl)
        clear HDk HXY HFk
        go_wp2_with fail
        go_region_held3 (fun W => W.cell? ⟨o, 0, none⟩ = some (.slice (some ⟨g, 0, none⟩) n C) ∧ W.cell? ⟨o, 1, none⟩ = some (.slice (some ⟨g', 0, none⟩) n C') ∧ W.cell? ⟨g, k, none⟩ = some (.string x)) (first | (refine ⟨?_, ?_, ?_⟩ <;> assumption) | (exact ⟨cellD_kept ne1 (by assumption), cellD_kept ne1 (by assumption), cellD_kept ne2 (by assumption)⟩) | go_keep) (fail)
        go_wp2_with fail
        go_roundw
        case rel => exact ⟨k + 1, by omega, by go_num, HD2.out.stays (Below.refl _ _).drew⟩
        case measure => simp [intOf]; omega
    · obtain rfl : k = n := by omega
      have HDx : Hid (DOut w wr (.slice a k ca) (.slice a' k ca') o (.slice A k C) (.slice A' k C') k k F F) := by
        have h := HDk.out
        have hl := HLn.out
        rw [show fallTo F xs k = F from by rw [← hl.1]; exact fallTo_all F xs HFl.out.1, show fallTo F ys k = F from by rw [← hl.2]; exact fallTo_all F ys HFl.out.2] at h
        exact h
      clear HDk c0 c1
      obtain ⟨c0, c1⟩ := HDx.out.2.2.1.cells
      obtain ⟨r0, r1⟩ := HDx.out.2.1.cells
      have f0 := HDx.out.2.1.frozen 0
      have f1 := HDx.out.2.1.frozen 1
      have HR := (show Hid _ from HDx.out.done)
      clear HDx
      go_wp2_with fail
      refine bodyPost_ret (v := .agg #[.slice A k C, .slice A' k C']) (by simp [results, Tryz.f57, go_sem, r0, r1]) rfl ?_
      exact ⟨⟨_, rfl, by rw [HPX.out, HPY.out]; exact HR.out.1⟩, HR.out.2⟩

end Go.Proofs.YtpjldfpipchmjavGreatDoor
