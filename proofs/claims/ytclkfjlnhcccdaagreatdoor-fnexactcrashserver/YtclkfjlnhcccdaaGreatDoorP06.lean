/- What the program's FallDisk answers. What the program's OpenStore answers of any disk. What the program's CrashServer answers. A row of truths that comes in. -/
import Derived.Test.YtclkfjlnhcccdaaGreatDoorM45
import Derived.Test.YtclkfjlnhcccdaaGreatDoorP05
import Derived.Test.YtclkfjlnhcccdaaGreatDoorM38
import Derived.Test.YtclkfjlnhcccdaaGreatDoorP04
import Derived.Test.YtclkfjlnhcccdaaGreatDoorP01
import Derived.Deep.CutBlock
import Derived.WalkMore
import Derived.Deep.RegionHeld3
import Derived.Test.YtclkfjlnhcccdaaGreatDoorM37
import Derived.Test.YtclkfjlnhcccdaaGreatDoorM43
import Derived.Test.YtclkfjlnhcccdaaGreatDoorM43
import Derived.Test.YtclkfjlnhcccdaaGreatDoorM23
import Derived.Test.YtclkfjlnhcccdaaGreatDoorM28
import Derived.Test.YtclkfjlnhcccdaaGreatDoorM05
import Derived.Test.YtclkfjlnhcccdaaGreatDoorM43
import Derived.Test.YtclkfjlnhcccdaaGreatDoorM29
import Derived.Test.YtclkfjlnhcccdaaGreatDoorM08
import Derived.Test.YtclkfjlnhcccdaaGreatDoorM10
import Derived.Lib.SmallJoins
import Derived.OpenShut
import Derived.ChangeOld
import Derived.WalkKit
import Derived.ProofKit
import Derived.Deep.Slices
namespace Go.Proofs.YtclkfjlnhcccdaaGreatDoor
open Go.RowKit
set_option linter.unusedVariables false

theorem blkOf_sG (a : Option Addr) (n c : Nat) : blkOf (.slice a n c) = a.map (·.block) := by cases a <;> rfl

set_option maxRecDepth 10000 in
set_option maxHeartbeats 3200000 in
theorem implFall_any (a : Option Addr) (n ca : Nat) (xs : List ByteArray) (a' : Option Addr) (n' ca' : Nat) (ys : List ByteArray) (ka : Option Addr) (m kc : Nat) (ks : List Bool) (w : World) (h1 : Strs w a n xs) (h2 : Strs w a' n' ys) (h3 : Bools w ka m ks) (hn : n ≤ 2097152) (hn' : n' ≤ 2097152) (hm : m ≤ 1099511627776) :
    Calls Tryz.prog 39 #[.agg #[.slice a n ca, .slice a' n' ca'], .slice ka m kc] w fun e w' => (∃ v, e = .returned v ∧ AnsD w.heap.size (fallX xs ys ks) (fallY xs ys ks) v w') ∧ Below w.heap.size w w' := by
  have HK : Hid (∀ W, Below w.heap.size w W → Bools W ka m ks) := fun W h => h3.below h
  have HKl : Hid (ks.length = m) := h3.1
  clear h3
  have HX : Hid (∀ W, Below w.heap.size w W → Strs W a n xs ∧ Strs W a' n' ys) := fun W h => ⟨h1.below h, h2.below h⟩
  have HLn : Hid (xs.length = n ∧ ys.length = n') := ⟨h1.1, h2.1⟩
  obtain ⟨W2, hW2⟩ : ∃ W2, (w.alloc (.cells #[.slice a n ca, .slice a' n' ca'] 32)).alloc (.cells #[.slice none 0 0, .slice none 0 0] 32) = W2 := ⟨_, rfl⟩
  have HE : Hid ((w.alloc (.cells #[.slice a n ca, .slice a' n' ca'] 32)).alloc (.cells #[.slice none 0 0, .slice none 0 0] 32) = W2) := hW2
  have HB2 : Hid (Below w.heap.size w W2) := by show Below _ _ _; rw [← hW2]; exact ((Below.refl _ _).alloc (Nat.le_refl _) _).alloc (by simp) _
  have HZ2 : Hid (W2.heap.size = w.heap.size + 2) := by show _ = _; rw [← hW2]; simp
  have HQ1 : Hid (Box2R W2 w.heap.size 32 (.slice a n ca) (.slice a' n' ca')) := by show Box2R _ _ _ _ _; rw [← hW2]; exact (Box2R.new _ _ _ _).alloc _
  have HQ2 : Hid (Box2R W2 (w.heap.size + 1) 32 (.slice none 0 0) (.slice none 0 0)) := by
    show Box2R _ _ _ _ _
    rw [← hW2]
    have := Box2R.new (w.alloc (.cells #[.slice a n ca, .slice a' n' ca'] 32)) 32 (.slice none 0 0) (.slice none 0 0)
    rwa [World.size_alloc] at this
  clear hW2 h1 h2
  go_enter Tryz.func39, Tryz.ntmps39
  go_wp2_with fail
  go_step3
  rw [HE.out]
  clear HE
  obtain ⟨c0, c1⟩ := HQ1.out.cells
  go_wp2_with fail
  refine (implDcopy_any a n ca xs a' n' ca' ys _ (HX.out _ HB2.out).1 (HX.out _ HB2.out).2 hn hn').mono ?_
  rintro e x3 ⟨⟨v, rfl, A, C, A', C', rfl, o1, o2, hap⟩, hb3⟩
  rw [HLn.out.1] at o1 ⊢
  rw [HLn.out.2] at o2 ⊢
  have HD : Hid (DOut w (x3.alloc (.cells #[.slice A n C, .slice A' n' C'] 32)) (.slice a n ca) (.slice a' n' ca') x3.heap.size (.slice A n C) (.slice A' n' C') n n' xs ys) := DOut.new HQ1.out HQ2.out HZ2.out HB2.out hb3 o1 o2 (fun q e e2 => by rw [blkOf_sG] at e e2; exact hap q e e2)
  clear o1 o2 hap hb3 HQ1 HQ2 HB2 HZ2 c0 c1
  go_upto_region 2 with fail
  obtain ⟨W3, hW3⟩ : ∃ W3, x3.alloc (.cells #[.slice A n C, .slice A' n' C'] 32) = W3 := ⟨_, rfl⟩
  rw [hW3] at HD ⊢
  clear hW3
  generalize x3.heap.size = o at *
  obtain ⟨c0, c1⟩ := HD.out.1.cells
  go_wp2_with fail
  refine (implDok_any a n ca xs a' n' ca' ys _ (HX.out _ HD.out.2.2.2.2.2.2.2.2).1 (HX.out _ HD.out.2.2.2.2.2.2.2.2).2 (by omega) (by omega)).mono ?_
  rintro e x4 ⟨rfl, hb4⟩
  have HDx : Hid (DOut w x4 (.slice a n ca) (.slice a' n' ca') o (.slice A n C) (.slice A' n' C') n n' xs ys) := HD.out.stays hb4
  clear hb4 HD c0 c1
  cases hok : okD xs ys
  · have HPX : Hid (fallX xs ys ks = xs) := by show _ = _; rw [fallX, hok]; rfl
    have HPY : Hid (fallY xs ys ks = ys) := by show _ = _; rw [fallY, hok]; rfl
    clear hok
    obtain ⟨c0, c1⟩ := HDx.out.2.2.1.cells
    obtain ⟨r0, r1⟩ := HDx.out.2.1.cells
    have f0 := HDx.out.2.1.frozen 0
    have f1 := HDx.out.2.1.frozen 1
    have HR := (show Hid _ from HDx.out.done)
    clear HDx
    go_wp2_with fail
    rw [Exit.noGoto_ret]
    refine bodyPost_ret (v := .agg #[.slice A n C, .slice A' n' C']) (by simp [results, Tryz.f39, go_sem, r0, r1]) rfl ?_
    exact ⟨⟨_, rfl, by rw [HPX.out, HPY.out]; exact HR.out.1⟩, HR.out.2⟩
  obtain rfl : n = n' := by
    have h := (okD_iff.1 hok).1
    have := HLn.out
    omega
  have HPX : Hid (fallX xs ys ks = fallL xs ys ks) := by show _ = _; rw [fallX, hok]; rfl
  have HPY : Hid (fallY xs ys ks = fallL xs ys ks) := by show _ = _; rw [fallY, hok]; rfl
  have HFl : Hid ((fallL xs ys ks).length = xs.length ∧ (fallL xs ys ks).length = ys.length) := ⟨fallL_len _ _ _, (fallL_len _ _ _).trans (okD_iff.1 hok).1⟩
  have HFa : Hid (∀ (k : Nat) (x y : ByteArray), xs[k]? = some x → ys[k]? = some y → (fallL xs ys ks)[k]? = some (if ks.getD k false then x else y)) := fun k x y h1 h2 => fallL_at h1 h2
  clear hok
  generalize fallL xs ys ks = F at *
  obtain ⟨c0, c1⟩ := HDx.out.1.cells
  go_wp2_with fail
  go_step3
  go_wp2_with fail
  clear c0 c1
  go_loopw [17] (fun i wr => ∃ k : Nat, k ≤ n ∧ i = .int .i64 (k : Int) ∧ Hid (DOut w wr (.slice a n ca) (.slice a' n ca') o (.slice A n C) (.slice A' n C') n n (fallTo F xs k) ys)) (fun i _ => n - (intOf i).toNat)
  case atStart => exact ⟨0, Nat.zero_le _, rfl, by rw [fallTo_zero]; exact HDx⟩
  case round =>
    clear HDx
    obtain ⟨k, hk, rfl, HDk⟩ := hrel
    by_cases hlt : k < n
    · obtain ⟨g, rfl⟩ : ∃ g, A = some ⟨g, 0, none⟩ := by
        rcases HDk.out.2.2.2.1.1.2 with ⟨_, h0⟩ | ⟨g, cap', cur, he, _⟩
        · omega
        · injection he with e1 _ _
          exact ⟨g, e1⟩
      have hbel := HDk.out.2.2.2.2.2.2.2.2
      obtain ⟨x, hx⟩ : ∃ x, xs[k]? = some x := ⟨_, List.getElem?_eq_getElem (by have := HLn.out; omega)⟩
      obtain ⟨yb, yo, y, rfl, _, hy, hcy⟩ := (HX.out _ hbel).2.at hlt
      have hym : y.size ≤ maxLen := (HX.out _ hbel).2.2.1 y (List.mem_of_getElem? hy)
      have HFk0 := (show Hid _ from HFa.out k x y hx hy)
      have HXk : Hid (xs[k]? = some x) := hx
      clear hx hy
      have hki : (k : Int) < (n : Int) := by omega
      have hk0 : (0 : Int) ≤ (k : Int) := by omega
      have HP0 : Hid (F[k]? = some y → DOut w (wr.setCell ⟨g, k, none⟩ (.string y)) (.slice a n ca) (.slice (some ⟨yb, yo, none⟩) n ca') o (.slice (some ⟨g, 0, none⟩) n C) (.slice A' n C') n n (fallTo F xs (k + 1)) ys) := by
        intro hF
        have h := HDk.out.put0 (j := k) y hym
        rw [fallTo_set F xs k y HFl.out.1 (by have := HLn.out; omega) hF] at h
        exact h
      have fz : wr.frozen? ⟨g, k, none⟩ = false := HDk.out.2.2.2.1.1.frozenAt _
      obtain ⟨u0, hu0⟩ : ∃ u, wr.cell? ⟨g, k, none⟩ = some u := by
        have hcl : (scells (fallTo F xs k)).length = n := by rw [scells_len, fallTo_len F xs k HFl.out.1 (by have := HLn.out; omega), HLn.out.1]
        rw [HDk.out.2.2.2.1.1.cellAt _ (by omega)]
        exact ⟨_, List.getElem?_eq_getElem (by omega)⟩
      obtain ⟨c0, c1⟩ := HDk.out.2.2.1.cells
      by_cases hkm : k < m
      case neg =>
        have HFk : Hid (F[k]? = some y) := by
          have h := HFk0.out
          have e : ks[k]? = none := List.getElem?_eq_none (by have := HKl.out; omega)
          rw [List.getD_eq_getElem?_getD, e] at h
          exact h
        have hkmi : ¬ (k : Int) < (m : Int) := by omega
        have HD2 := (show Hid _ from HP0.out HFk.out)
        clear HFk0 hbel HP0 HDk HXk HFk
        go_wp2_with fail
        go_roundw
        case rel => exact ⟨k + 1, by omega, by go_num, HD2⟩
        case measure => simp [intOf]; omega
      obtain ⟨kb, ko, b, rfl, _, hkb, hcb⟩ := (HK.out _ hbel).at hkm
      have hkmi : (k : Int) < (m : Int) := by omega
      have HFk1 : Hid (F[k]? = some (if b then x else y)) := by
        have h := HFk0.out
        rw [List.getD_eq_getElem?_getD, hkb] at h
        exact h
      clear HFk0 hbel hkb
      cases b
      · have HD2 := (show Hid _ from HP0.out HFk1.out)
        clear HFk1 HP0 HDk HXk
        go_wp2_with fail
        go_roundw
        case rel => exact ⟨k + 1, by omega, by go_num, HD2⟩
        case measure => simp [intOf]; omega
      · have HD2 : Hid (DOut w wr (.slice a n ca) (.slice (some ⟨yb, yo, none⟩) n ca') o (.slice (some ⟨g, 0, none⟩) n C) (.slice A' n C') n n (fallTo F xs (k + 1)) ys) := by
          have h := HDk.out
          rw [fallTo_same F xs k x HFl.out.1 HXk.out HFk1.out] at h
          exact h
        clear HFk1 HP0 HDk HXk
        go_wp2_with fail
        go_roundw
        case rel => exact ⟨k + 1, by omega, by go_num, HD2⟩
        case measure => simp [intOf]; omega
    · obtain rfl : k = n := by omega
      have HDx : Hid (DOut w wr (.slice a k ca) (.slice a' k ca') o (.slice A k C) (.slice A' k C') k k F ys) := by
        have h := HDk.out
        have hl := HLn.out
        rw [show fallTo F xs k = F from by rw [← hl.1]; exact fallTo_all F xs HFl.out.1] at h
        exact h
      clear HDk
      obtain ⟨c0, c1⟩ := HDx.out.2.2.1.cells
      go_wp2_with fail
      refine (implFlush_any A k C F A' k C' _ HDx.out.2.2.2.1.strs (by omega)).mono ?_
      rintro e x7 ⟨⟨v, rfl, B, D, B', D', rfl, o1, o2, hap⟩, hb7⟩
      have hFn : F.length = k := HFl.out.1.trans HLn.out.1
      rw [hFn] at o1 o2 ⊢
      have hbx := HDx.out.2.1.stays hb7
      obtain ⟨r0, r1⟩ := hbx.cells
      have f0 := hbx.frozen 0
      have f1 := hbx.frozen 1
      have HR : Hid (AnsD w.heap.size F F (.agg #[.slice B k D, .slice B' k D']) ((x7.setCell ⟨w.heap.size + 1, 0, none⟩ (.slice B k D)).setCell ⟨w.heap.size + 1, 1, none⟩ (.slice B' k D')) ∧ Below w.heap.size w ((x7.setCell ⟨w.heap.size + 1, 0, none⟩ (.slice B k D)).setCell ⟨w.heap.size + 1, 1, none⟩ (.slice B' k D'))) := by
        have hlt := HDx.out.2.1.lt
        have hbel := HDx.out.2.2.2.2.2.2.2.2
        have n1 : blkOf (.slice B k D) ≠ some (w.heap.size + 1) := fun e => by have := (o1.lt _ e).1; omega
        have n2 : blkOf (.slice B' k D') ≠ some (w.heap.size + 1) := fun e => by have := (o2.lt _ e).1; omega
        have hbw := hbel.trans (hb7.mono hbel.size)
        exact ⟨AnsD.mk' hFn hFn (((o1.setCell n1 _).setCell n1 _).low (by omega)) (((o2.setCell n2 _).setCell n2 _).low (by omega)) hap, (hbw.setCell (by dsimp only; omega) _).setCell (by dsimp only; omega) _⟩
      clear HDx c0 c1 o1 o2 hap hb7 hbx
      go_wp2_with fail
      rw [Exit.noGoto_ret]
      refine bodyPost_ret (v := .agg #[.slice B k D, .slice B' k D']) (by simp [results, Tryz.f39, go_sem, r0, r1]) rfl ?_
      exact ⟨⟨_, rfl, by rw [HPX.out, HPY.out]; exact HR.out.1⟩, HR.out.2⟩

end Go.Proofs.YtclkfjlnhcccdaaGreatDoor

namespace Go.Proofs.YtclkfjlnhcccdaaGreatDoor
open Go.RowKit
set_option linter.unusedVariables false

set_option maxRecDepth 10000 in
set_option maxHeartbeats 3200000 in
theorem implOpen_all (a : Option Addr) (n ca : Nat) (X : List ByteArray) (a' : Option Addr) (n' ca' : Nat) (Y : List ByteArray) (w : World) (h1 : Strs w a n X) (h2 : Strs w a' n' Y) (hn : n ≤ 1048576) (hn' : n' ≤ 1048576) (ht : RecT w) (he : ErrN w) :
    Calls Tryz.prog 38 #[.agg #[.slice a n ca, .slice a' n' ca']] w fun e w' => OpenAns w.heap.size X Y e w' ∧ Below w.heap.size w w' := by
  obtain ⟨W2, hW2⟩ : ∃ W2, (w.alloc (.cells #[.slice a n ca, .slice a' n' ca'] 32)).alloc (.cells #[.slice none 0 0, .slice none 0 0, .int .i64 0, .int .i64 0, .slice none 0 0] 35) = W2 := ⟨_, rfl⟩
  have HE : Hid ((w.alloc (.cells #[.slice a n ca, .slice a' n' ca'] 32)).alloc (.cells #[.slice none 0 0, .slice none 0 0, .int .i64 0, .int .i64 0, .slice none 0 0] 35) = W2) := hW2
  have HB2 : Hid (Below w.heap.size w W2) := by show Below _ _ _; rw [← hW2]; exact ((Below.refl _ _).alloc (Nat.le_refl _) _).alloc (by simp) _
  have q1 : BoxN W2 w.heap.size 32 [.slice a n ca, .slice a' n' ca'] := by rw [← hW2]; exact (BoxN.new _ _ _).alloc _
  have q2 : BoxN W2 (w.heap.size + 1) 35 [.slice none 0 0, .slice none 0 0, .int .i64 0, .int .i64 0, .slice none 0 0] := by
    rw [← hW2]
    have := BoxN.new (w.alloc (.cells #[.slice a n ca, .slice a' n' ca'] 32)) 35 [.slice none 0 0, .slice none 0 0, .int .i64 0, .int .i64 0, .slice none 0 0]
    rwa [World.size_alloc] at this
  have HQ : Hid (∀ W, Below W2.heap.size W2 W → BoxN W w.heap.size 32 [.slice a n ca, .slice a' n' ca'] ∧ BoxN W (w.heap.size + 1) 35 [.slice none 0 0, .slice none 0 0, .int .i64 0, .int .i64 0, .slice none 0 0]) := fun W h => ⟨q1.stays h, q2.stays h⟩
  have HX : Hid (∀ W, Below W2.heap.size W2 W → Strs W a n X ∧ Strs W a' n' Y ∧ RecT W ∧ ErrN W) := fun W h => by
    have hw := HB2.out.trans (h.mono HB2.out.size)
    exact ⟨h1.below hw, h2.below hw, ht.below hw, he.below hw⟩
  have HZ : Hid (okD X Y = true → ∀ x ∈ X, x.size ≤ 1048576) := fun h x hx => by have := (okD_iff.1 h).2.2.1 x hx; omega
  have hs2 : w.heap.size + 1 < W2.heap.size := q2.lt
  clear hW2 q1 q2 h1 h2 ht he
  have HA0 : Hid (Below W2.heap.size W2 W2) := Below.refl _ _
  obtain ⟨c0, c1⟩ := (show _ ∧ _ from ⟨(HQ.out _ HA0.out).1.cell 0 rfl, (HQ.out _ HA0.out).1.cell 1 rfl⟩)
  go_enter Tryz.func38, Tryz.ntmps38
  go_upto_region 1 with fail
  rw [HE.out]
  clear HE
  go_wp2_with fail
  refine (implDok_any a n ca X a' n' ca' Y W2 (HX.out _ HA0.out).1 (HX.out _ HA0.out).2.1 (by omega) (by omega)).mono ?_
  rintro _ y1 ⟨rfl, hb1⟩
  have HB1 : Hid (Below W2.heap.size W2 y1) := hb1
  clear hb1 c0 c1
  cases hok : okD X Y
  · try dsimp only
    have HN : Hid (openO X Y = none) := by show _ = _; rw [openO, hok]
    have HBw : Hid (Below w.heap.size w y1) := HB2.out.trans (HB1.out.mono HB2.out.size)
    obtain ⟨r0, r1, r2, r3, r4⟩ := (show _ ∧ _ ∧ _ ∧ _ ∧ _ from ⟨(HQ.out _ HB1.out).2.cell 0 rfl, (HQ.out _ HB1.out).2.cell 1 rfl, (HQ.out _ HB1.out).2.cell 2 rfl, (HQ.out _ HB1.out).2.cell 3 rfl, (HQ.out _ HB1.out).2.cell 4 rfl⟩)
    obtain ⟨f0, f1, f2, f3, f4⟩ := (show _ ∧ _ ∧ _ ∧ _ ∧ _ from ⟨(HQ.out _ HB1.out).2.frozen 0, (HQ.out _ HB1.out).2.frozen 1, (HQ.out _ HB1.out).2.frozen 2, (HQ.out _ HB1.out).2.frozen 3, (HQ.out _ HB1.out).2.frozen 4⟩)
    clear HQ HX HB1
    go_wp2_with fail
    refine bodyPost_ret (v := .tuple #[.agg #[.slice none 0 0, .slice none 0 0, .int .i64 0, .int .i64 0, .slice none 0 0], .bool false]) (by simp [results, Tryz.f38, go_sem, r0, r1, r2, r3, r4]) rfl ?_
    refine ⟨?_, ?_⟩
    · rw [OpenAns, HN.out]
      exact ⟨_, rfl, none, 0, 0, none, 0, 0, none, 0, 0, [], rfl, ⟨⟨⟨rfl, .inl ⟨rfl, rfl⟩⟩, by simp⟩, ⟨⟨rfl, .inl ⟨rfl, rfl⟩⟩, by simp⟩, by simp, ⟨⟨rfl, .inl ⟨rfl, rfl⟩⟩, by simp, by simp⟩, rfl⟩, rfl⟩
    · exact ((((HBw.out.setCell (by dsimp only; omega) _).setCell (by dsimp only; omega) _).setCell (by dsimp only; omega) _).setCell (by dsimp only; omega) _).setCell (by dsimp only; omega) _

  have HOk : Hid (okD X Y = true) := hok
  clear hok
  obtain ⟨c0, c1⟩ := (show _ ∧ _ from ⟨(HQ.out _ HB1.out).1.cell 0 rfl, (HQ.out _ HB1.out).1.cell 1 rfl⟩)
  go_wp2_with fail
  refine (implScan_any a n ca X a' n' ca' y1 (HX.out _ HB1.out).1 (by omega) (HZ.out HOk.out) (HX.out _ HB1.out).2.2.1).mono ?_
  rintro _ y2 ⟨⟨v2, rs, rfl, hrow, hlm⟩, hb2⟩
  have HC2 : Hid (Below W2.heap.size W2 y2) := HB1.out.trans (hb2.mono HB1.out.size)
  obtain ⟨ra, rc, rfl⟩ := hrow.shape
  obtain ⟨M, hM⟩ : ∃ M, rs.length = M := ⟨_, rfl⟩
  rw [hM] at hrow ⊢
  have HM : Hid (M = rs.length) := hM.symm
  have HLm : Hid (rs.map RE.r = scanR X) := hlm
  have HR2 : Hid (RcRow y2 y1.heap.size (.slice ra M rc) rs) := hrow
  have HSh : Hid (∀ e ∈ rs, e.n ≤ 24) := rows_short hrow hlm (scanFrom_ok X 0 0).2
  have HMl : Hid (M = (scanR X).length) := by show _ = _; rw [← hlm, List.length_map, hM]
  have hMn : M ≤ 1048576 := by
    have h1 := (scanFrom_ok X 0 0).1
    have h2 := (HX.out _ HC2.out).1.1
    have h3 := congrArg List.length hlm
    rw [List.length_map, hM] at h3
    have h4 : (scanR X).length = (scanFrom 0 0 X).length := rfl
    omega
  clear hrow hlm hM hb2 c0 c1
  go_wp2_with fail
  refine (implFold_any ra M rc y1.heap.size rs 24 y2 HR2.out HM.out (by omega) HSh.out (by omega) (by omega) (rows_ns HLm.out) (HX.out _ HC2.out).2.2.2).mono ?_
  rintro _ y3 ⟨⟨x3, l3, rfl, hrow3, hm3, h310⟩, hb3⟩
  rw [HLm.out, foldP_ok] at hm3 ⊢
  have HC3 : Hid (Below W2.heap.size W2 y3) := HC2.out.trans (hb3.mono HC2.out.size)
  obtain ⟨xa, xc, rfl⟩ := hrow3.shape
  obtain ⟨K, hK⟩ : ∃ K, l3.length = K := ⟨_, rfl⟩
  rw [hK] at hrow3 ⊢
  have hy2 : W2.heap.size ≤ y2.heap.size := HC2.out.size
  have HR3 : Hid (UpRow y3 y2.heap.size (.slice xa K xc) l3 ∧ K = l3.length) := ⟨hrow3, hK.symm⟩
  clear hb3 hrow3 hK h310 HB1 HC2 HR2
  obtain ⟨c0, c1⟩ := (show _ ∧ _ from ⟨(HQ.out _ HC3.out).1.cell 0 rfl, (HQ.out _ HC3.out).1.cell 1 rfl⟩)
  have HTb : Hid (-1 ≤ topE X ∧ topE X ≤ 10000) := topE_range X
  obtain ⟨T, hT⟩ : ∃ T, topE X = T := ⟨_, rfl⟩
  have HTe : Hid (topE X = T) := hT
  have htb : -1 ≤ T ∧ T ≤ 10000 := by rw [← hT]; exact HTb.out
  clear hT
  have htb1 : -1 ≤ T := htb.1
  have htb2 : T ≤ 10000 := htb.2
  clear htb
  cases hf : foldU (scanR X) with
  | none =>
    rw [hf] at hm3
    dsimp only [Option.isSome]
    go_wp2_with fail
    refine (implTop_any a n ca X a' n' ca' y3 (HX.out _ HC3.out).1 (by omega) (HZ.out HOk.out) (HX.out _ HC3.out).2.2.1).mono ?_
    rintro _ y4 ⟨rfl, hb4⟩
    rw [HTe.out]
    have HC4 : Hid (Below W2.heap.size W2 y4) := HC3.out.trans (hb4.mono HC3.out.size)
    clear hb4 c0 c1 HR3 HC3
    have HN : Hid (openO X Y = none) := by show _ = _; rw [openO, HOk.out, hf]
    have HBw : Hid (Below w.heap.size w y4) := HB2.out.trans (HC4.out.mono HB2.out.size)
    obtain ⟨r0, r1, r2, r3, r4⟩ := (show _ ∧ _ ∧ _ ∧ _ ∧ _ from ⟨(HQ.out _ HC4.out).2.cell 0 rfl, (HQ.out _ HC4.out).2.cell 1 rfl, (HQ.out _ HC4.out).2.cell 2 rfl, (HQ.out _ HC4.out).2.cell 3 rfl, (HQ.out _ HC4.out).2.cell 4 rfl⟩)
    obtain ⟨f0, f1, f2, f3, f4⟩ := (show _ ∧ _ ∧ _ ∧ _ ∧ _ from ⟨(HQ.out _ HC4.out).2.frozen 0, (HQ.out _ HC4.out).2.frozen 1, (HQ.out _ HC4.out).2.frozen 2, (HQ.out _ HC4.out).2.frozen 3, (HQ.out _ HC4.out).2.frozen 4⟩)
    clear HQ HX HC4
    go_wp2_with fail
    refine bodyPost_ret (v := .tuple #[.agg #[.slice none 0 0, .slice none 0 0, .int .i64 0, .int .i64 0, .slice none 0 0], .bool false]) (by simp [results, Tryz.f38, go_sem, r0, r1, r2, r3, r4]) rfl ?_
    refine ⟨?_, ?_⟩
    · rw [OpenAns, HN.out]
      exact ⟨_, rfl, none, 0, 0, none, 0, 0, none, 0, 0, [], rfl, ⟨⟨⟨rfl, .inl ⟨rfl, rfl⟩⟩, by simp⟩, ⟨⟨rfl, .inl ⟨rfl, rfl⟩⟩, by simp⟩, by simp, ⟨⟨rfl, .inl ⟨rfl, rfl⟩⟩, by simp, by simp⟩, rfl⟩, rfl⟩
    · exact ((((HBw.out.setCell (by dsimp only; omega) _).setCell (by dsimp only; omega) _).setCell (by dsimp only; omega) _).setCell (by dsimp only; omega) _).setCell (by dsimp only; omega) _

  | some us =>
    rw [hf] at hm3
    dsimp only [Option.isSome]
    have HUs : Hid (l3.map UE.u = us) := hm3
    have HFo : Hid (foldU (scanR X) = some us) := hf
    clear hm3 hf
    go_wp2_with fail
    refine (implTop_any a n ca X a' n' ca' y3 (HX.out _ HC3.out).1 (by omega) (HZ.out HOk.out) (HX.out _ HC3.out).2.2.1).mono ?_
    rintro _ y4 ⟨rfl, hb4⟩
    rw [HTe.out]
    have HC4 : Hid (Below W2.heap.size W2 y4) := HC3.out.trans (hb4.mono HC3.out.size)
    have HR4 : Hid (UpRow y4 y2.heap.size (.slice xa K xc) l3 ∧ K = l3.length) := ⟨HR3.out.1.stays hb4, HR3.out.2⟩
    clear hb4 c0 c1 HR3 HC3
    by_cases hbig : 10000 < T + 1
    · clear HR4
      have HN : Hid (openO X Y = none) := by show _ = _; rw [openO, HOk.out, HFo.out, HTe.out]; simp [hbig]
      have HBw : Hid (Below w.heap.size w y4) := HB2.out.trans (HC4.out.mono HB2.out.size)
      obtain ⟨r0, r1, r2, r3, r4⟩ := (show _ ∧ _ ∧ _ ∧ _ ∧ _ from ⟨(HQ.out _ HC4.out).2.cell 0 rfl, (HQ.out _ HC4.out).2.cell 1 rfl, (HQ.out _ HC4.out).2.cell 2 rfl, (HQ.out _ HC4.out).2.cell 3 rfl, (HQ.out _ HC4.out).2.cell 4 rfl⟩)
      obtain ⟨f0, f1, f2, f3, f4⟩ := (show _ ∧ _ ∧ _ ∧ _ ∧ _ from ⟨(HQ.out _ HC4.out).2.frozen 0, (HQ.out _ HC4.out).2.frozen 1, (HQ.out _ HC4.out).2.frozen 2, (HQ.out _ HC4.out).2.frozen 3, (HQ.out _ HC4.out).2.frozen 4⟩)
      clear HQ HX HC4
      go_wp2_with fail
      refine bodyPost_ret (v := .tuple #[.agg #[.slice none 0 0, .slice none 0 0, .int .i64 0, .int .i64 0, .slice none 0 0], .bool false]) (by simp [results, Tryz.f38, go_sem, r0, r1, r2, r3, r4]) rfl ?_
      refine ⟨?_, ?_⟩
      · rw [OpenAns, HN.out]
        exact ⟨_, rfl, none, 0, 0, none, 0, 0, none, 0, 0, [], rfl, ⟨⟨⟨rfl, .inl ⟨rfl, rfl⟩⟩, by simp⟩, ⟨⟨rfl, .inl ⟨rfl, rfl⟩⟩, by simp⟩, by simp, ⟨⟨rfl, .inl ⟨rfl, rfl⟩⟩, by simp, by simp⟩, rfl⟩, rfl⟩
      · exact ((((HBw.out.setCell (by dsimp only; omega) _).setCell (by dsimp only; omega) _).setCell (by dsimp only; omega) _).setCell (by dsimp only; omega) _).setCell (by dsimp only; omega) _

    have HS : Hid (openO X Y = some (T + 1, M, us)) := by show _ = _; rw [openO, HOk.out, HFo.out, HTe.out, HMl.out]; simp [hbig]
    obtain ⟨c0, c1⟩ := (show _ ∧ _ from ⟨(HQ.out _ HC4.out).1.cell 0 rfl, (HQ.out _ HC4.out).1.cell 1 rfl⟩)
    go_wp2_with fail
    refine (implDcopy_any a n ca X a' n' ca' Y y4 (HX.out _ HC4.out).1 (HX.out _ HC4.out).2.1 (by omega) (by omega)).mono ?_
    rintro _ y5 ⟨⟨v5, rfl, A, C, A', C', rfl, ow, ow', hap⟩, hb5⟩
    have HBw : Hid (Below w.heap.size w y5) := by
      have h1 := HC4.out.trans (hb5.mono HC4.out.size)
      exact HB2.out.trans (h1.mono HB2.out.size)
    have hy4 : W2.heap.size ≤ y4.heap.size := HC4.out.size
    have HS5 : Hid (StoAt y5 (w.heap.size + 2) A X.length C X A' Y.length C' Y xa K xc l3) := ⟨ow.low (by omega), ow'.low (by omega), hap, (HR4.out.1.stays hb5).low (by omega), HR4.out.2⟩
    have hq5 := (HQ.out _ (HC4.out.trans (hb5.mono HC4.out.size))).2
    obtain ⟨r0, r1, r2, r3, r4⟩ := (show _ ∧ _ ∧ _ ∧ _ ∧ _ from ⟨hq5.cell 0 rfl, hq5.cell 1 rfl, hq5.cell 2 rfl, hq5.cell 3 rfl, hq5.cell 4 rfl⟩)
    obtain ⟨f0, f1, f2, f3, f4⟩ := (show _ ∧ _ ∧ _ ∧ _ ∧ _ from ⟨hq5.frozen 0, hq5.frozen 1, hq5.frozen 2, hq5.frozen 3, hq5.frozen 4⟩)
    clear ow ow' hap hb5 hq5 HQ HX HC4 HR4 c0 c1
    go_wp2_with fail
    refine bodyPost_ret (v := .tuple #[.agg #[.slice A X.length C, .slice A' Y.length C', .int .i64 (T + 1), .int .i64 (M : Int), .slice xa K xc], .bool true]) (by simp [results, Tryz.f38, go_sem, r0, r1, r2, r3, r4]) rfl ?_
    refine ⟨?_, ?_⟩
    · rw [OpenAns, HS.out]
      exact ⟨_, rfl, A, X.length, C, A', Y.length, C', xa, K, xc, l3, rfl, (((((HS5.out.setLow (by omega) _).setLow (by omega) _).setLow (by omega) _).setLow (by omega) _).setLow (by omega) _).low (by omega), HUs.out⟩
    · exact ((((HBw.out.setCell (by dsimp only; omega) _).setCell (by dsimp only; omega) _).setCell (by dsimp only; omega) _).setCell (by dsimp only; omega) _).setCell (by dsimp only; omega) _

end Go.Proofs.YtclkfjlnhcccdaaGreatDoor

namespace Go.Proofs.YtclkfjlnhcccdaaGreatDoor
open Go.RowKit
set_option linter.unusedVariables false

set_option maxRecDepth 10000 in
set_option maxHeartbeats 6400000 in
theorem implCrash_any (a : Option Addr) (n ca : Nat) (X : List ByteArray) (a' : Option Addr) (n' ca' : Nat) (Y : List ByteArray) (ep nx : Int) (ua : Option Addr) (un uc lo : Nat) (l : List UE) (ha : Option Addr) (hn hc : Nat) (hs : List Hd) (ka : Option Addr) (m kc : Nat) (ks : List Bool) (w : World) (h1 : Strs w a n X) (h2 : Strs w a' n' Y) (hln : n ≤ 1048576) (hln' : n' ≤ 1048576) (hzx : ∀ x ∈ X, x.size ≤ 1048576) (hu : UpRow w lo (.slice ua un uc) l) (hun : un = l.length) (hul : un ≤ 1048576) (hz : ∀ e ∈ l, e.n ≤ 1099511627776) (hh : Helds w ha hn hs) (hhl : hn ≤ 1048576) (hk : Bools w ka m ks) (hm : m ≤ 1048576) (hsl : SlOk a n ca) (ht : RecT w) (he : ErrN w) :
    Calls Tryz.prog 17 #[.agg #[.slice a n ca, .slice a' n' ca', .int .i64 ep, .int .i64 nx, .slice ua un uc, .slice ha hn hc], .slice ka m kc] w fun e w' => (∃ v, e = .returned (.tuple #[v, .bool (crA X Y ep nx (l.map UE.u) hs ks).ok]) ∧ AnsV true w.heap.size (crA X Y ep nx (l.map UE.u) hs ks).X (crA X Y ep nx (l.map UE.u) hs ks).Y (crA X Y ep nx (l.map UE.u) hs ks).ep (crA X Y ep nx (l.map UE.u) hs ks).nx (crA X Y ep nx (l.map UE.u) hs ks).us (crA X Y ep nx (l.map UE.u) hs ks).hs v w') ∧ Below w.heap.size w w' := by
  obtain ⟨W2, hW2⟩ : ∃ W2, (w.alloc (.cells #[.slice a n ca, .slice a' n' ca', .int .i64 ep, .int .i64 nx, .slice ua un uc, .slice ha hn hc] 38)).alloc (.cells #[.slice none 0 0, .slice none 0 0, .int .i64 0, .int .i64 0, .slice none 0 0, .slice none 0 0] 38) = W2 := ⟨_, rfl⟩
  have HE : Hid ((w.alloc (.cells #[.slice a n ca, .slice a' n' ca', .int .i64 ep, .int .i64 nx, .slice ua un uc, .slice ha hn hc] 38)).alloc (.cells #[.slice none 0 0, .slice none 0 0, .int .i64 0, .int .i64 0, .slice none 0 0, .slice none 0 0] 38) = W2) := hW2
  have HB2 : Hid (Below w.heap.size w W2) := by show Below _ _ _; rw [← hW2]; exact ((Below.refl _ _).alloc (Nat.le_refl _) _).alloc (by simp) _
  have HZ2 : Hid (W2.heap.size = w.heap.size + 2) := by show _ = _; rw [← hW2]; simp
  have q1 : BoxN W2 w.heap.size 38 [.slice a n ca, .slice a' n' ca', .int .i64 ep, .int .i64 nx, .slice ua un uc, .slice ha hn hc] := by rw [← hW2]; exact (BoxN.new _ _ _).alloc _
  have q2 : BoxN W2 (w.heap.size + 1) 38 [.slice none 0 0, .slice none 0 0, .int .i64 0, .int .i64 0, .slice none 0 0, .slice none 0 0] := by
    rw [← hW2]
    have := BoxN.new (w.alloc (.cells #[.slice a n ca, .slice a' n' ca', .int .i64 ep, .int .i64 nx, .slice ua un uc, .slice ha hn hc] 38)) 38 [.slice none 0 0, .slice none 0 0, .int .i64 0, .int .i64 0, .slice none 0 0, .slice none 0 0]
    rwa [World.size_alloc] at this
  have HQ : Hid (∀ W, Below W2.heap.size W2 W → BoxN W w.heap.size 38 [.slice a n ca, .slice a' n' ca', .int .i64 ep, .int .i64 nx, .slice ua un uc, .slice ha hn hc] ∧ BoxN W (w.heap.size + 1) 38 [.slice none 0 0, .slice none 0 0, .int .i64 0, .int .i64 0, .slice none 0 0, .slice none 0 0]) := fun W h => ⟨q1.stays h, q2.stays h⟩
  have HX : Hid (∀ W, Below W2.heap.size W2 W → Strs W a n X ∧ Strs W a' n' Y ∧ UpRow W lo (.slice ua un uc) l ∧ Helds W ha hn hs ∧ RecT W ∧ ErrN W) := fun W h => by
    have hw := HB2.out.trans (h.mono HB2.out.size)
    exact ⟨h1.below hw, h2.below hw, hu.stays hw, hh.below hw, ht.below hw, he.below hw⟩
  have HL : Hid (un = l.length ∧ (∀ e ∈ l, e.n ≤ 1099511627776) ∧ hs.length = hn ∧ (∀ s ∈ hs, hd64 s) ∧ X.length = n ∧ Y.length = n' ∧ ∀ x ∈ X, x.size ≤ 1048576) := ⟨hun, hz, hh.1, hh.2.1, h1.1, h2.1, hzx⟩
  have HA0 : Hid (Below W2.heap.size W2 W2) := Below.refl _ _
  have hs2 : w.heap.size + 1 < W2.heap.size := q2.lt
  have hne : w.heap.size ≠ w.heap.size + 1 := by omega
  clear hW2 q1 q2 h1 h2 hu hun hz hh hzx ht he
  have HK : Hid (∀ W, Below W2.heap.size W2 W → Bools W ka m ks) := fun W h => hk.below (HB2.out.trans (h.mono HB2.out.size))
  clear hk
  have HCp : Hid (∀ W, Below W2.heap.size W2 W → Calls Tryz.prog 28 #[.agg #[.slice a n ca, .slice a' n' ca', .int .i64 ep, .int .i64 nx, .slice ua un uc, .slice ha hn hc]] W fun e w' => (∃ b cb b' cb' va vc l' pa pc, e = .returned (.agg #[.slice b n cb, .slice b' n' cb', .int .i64 ep, .int .i64 nx, .slice va un vc, .slice pa hn pc]) ∧ SvAt w' W.heap.size b n cb X b' n' cb' Y va un vc l' pa hn pc hs ∧ l'.map UE.u = l.map UE.u ∧ SvBeh W.heap.size b b' va l' pa) ∧ Below W.heap.size W w') := fun W hb => by
    refine (implVcopy_any a n ca X a' n' ca' Y ep nx ua un uc lo l ha hn hc hs W (HX.out _ hb).1 (HX.out _ hb).2.1 hln hln' (HX.out _ hb).2.2.1 HL.out.1 hul HL.out.2.1 (HX.out _ hb).2.2.2.1 hhl).mono ?_
    rintro e y1 ⟨⟨v1, rfl, hv1⟩, hb1⟩
    obtain ⟨b, cb, b', cb', va, vc, l', pa, pc, rfl, hs1, hm1, hk1⟩ := hv1.get
    rw [List.length_map, ← HL.out.1, HL.out.2.2.2.2.1, HL.out.2.2.2.2.2.1, HL.out.2.2.1] at hs1 ⊢
    exact ⟨⟨b, cb, b', cb', va, vc, l', pa, pc, rfl, hs1, hm1, hk1 rfl⟩, hb1⟩
  have HOk : Hid (∀ W, Below W2.heap.size W2 W → Calls Tryz.prog 27 #[.agg #[.slice a n ca, .slice a' n' ca', .int .i64 ep, .int .i64 nx, .slice ua un uc, .slice ha hn hc]] W fun e w' => e = .returned (.bool (svB X Y ep nx (l.map UE.u) hs)) ∧ Below W.heap.size W w') := fun W hb =>
    implSvok_any a n ca X a' n' ca' Y ep nx ua un uc lo l ha hn hc hs W (HX.out _ hb).1 (HX.out _ hb).2.1 hln hln' HL.out.2.2.2.2.2.2 (HX.out _ hb).2.2.1 HL.out.1 hul (HX.out _ hb).2.2.2.1 (by omega) hsl (HX.out _ hb).2.2.2.2.1 (HX.out _ hb).2.2.2.2.2
  have HFL : Hid ((fallX X Y ks).length ≤ 1048576 ∧ (fallY X Y ks).length ≤ 1048576) := ⟨by have := (fallX_len X Y ks).1; have := HL.out.2.2.2.2.1; omega, fallY_len X Y ks 1048576 (by have := HL.out.2.2.2.2.1; omega) (by have := HL.out.2.2.2.2.2.1; omega)⟩
  have HFa : Hid (∀ W, Below W2.heap.size W2 W → Calls Tryz.prog 39 #[.agg #[.slice a n ca, .slice a' n' ca'], .slice ka m kc] W fun e w' => (∃ d nd cd d' nd' cd', e = .returned (.agg #[.slice d nd cd, .slice d' nd' cd']) ∧ Strs w' d nd (fallX X Y ks) ∧ Strs w' d' nd' (fallY X Y ks) ∧ nd ≤ 1048576 ∧ nd' ≤ 1048576) ∧ Below W.heap.size W w') := fun W hb => by
    refine (implFall_any a n ca X a' n' ca' Y ka m kc ks W (HX.out _ hb).1 (HX.out _ hb).2.1 (HK.out _ hb) (by omega) (by omega) (by omega)).mono ?_
    rintro e y1 ⟨⟨v1, rfl, A, C, A', C', rfl, o1, o2, _⟩, hb1⟩
    exact ⟨⟨A, _, C, A', _, C', rfl, o1.strs, o2.strs, HFL.out.1, HFL.out.2⟩, hb1⟩
  obtain ⟨O, hO⟩ : ∃ O, openA (fallX X Y ks) (fallY X Y ks) = O := ⟨_, rfl⟩
  have HOp : Hid (∀ W d nd cd d' nd' cd', Below W2.heap.size W2 W → Strs W d nd (fallX X Y ks) → Strs W d' nd' (fallY X Y ks) → nd ≤ 1048576 → nd' ≤ 1048576 → Calls Tryz.prog 38 #[.agg #[.slice d nd cd, .slice d' nd' cd']] W fun e w' => (∃ b nb cb b' nb' cb' va nv vc l', e = .returned (.tuple #[.agg #[.slice b nb cb, .slice b' nb' cb', .int .i64 O.ep, .int .i64 O.nx, .slice va nv vc], .bool O.ok]) ∧ StoAt w' W.heap.size b nb cb O.X b' nb' cb' O.Y va nv vc l' ∧ l'.map UE.u = O.us) ∧ Below W.heap.size W w') := fun W d nd cd d' nd' cd' hb h1 h2 h3 h4 => by
    refine (implOpen_all d nd cd (fallX X Y ks) d' nd' cd' (fallY X Y ks) W h1 h2 h3 h4 (HX.out _ hb).2.2.2.2.1 (HX.out _ hb).2.2.2.2.2).mono ?_
    rintro e y1 ⟨ha1, hb1⟩
    obtain ⟨v, rfl, b, nb, cb, b', nb', cb', va, nv, vc, l', rfl, h5, h6⟩ := ha1.get
    rw [hO] at h5 h6 ⊢
    exact ⟨⟨b, nb, cb, b', nb', cb', va, nv, vc, l', rfl, h5, h6⟩, hb1⟩
  obtain ⟨R, hR⟩ : ∃ R, crA X Y ep nx (l.map UE.u) hs ks = R := ⟨_, rfl⟩
  rw [hR]
  obtain ⟨ok, hok⟩ : ∃ ok, svB X Y ep nx (l.map UE.u) hs = ok := ⟨_, rfl⟩
  rw [hok] at HOk
  have HR : Hid (R = if ok = true ∧ O.ok = true then ⟨O.X, O.Y, O.ep, O.nx, O.us, [], true⟩ else ⟨X, Y, ep, nx, l.map UE.u, hs, false⟩) := by show _ = _; rw [← hR, crA, hok, hO]
  clear hok hO hR hsl
  go_enter Tryz.func17, Tryz.ntmps17
  go_upto_region 1 with fail
  rw [HE.out]
  clear HE
  have d0 := BoxN.cell (HQ.out _ HA0.out).1 0 rfl
  have d1 := BoxN.cell (HQ.out _ HA0.out).1 1 rfl
  go_wp2_with fail
  refine (HFa.out _ HA0.out).mono ?_
  rintro e x3 ⟨⟨d, nd, cd, d', nd', cd', rfl, hf1, hf2, hf3, hf4⟩, hb3⟩
  have HC3 : Hid (Below W2.heap.size W2 x3) := HA0.out.trans (hb3.mono HA0.out.size)
  have HF3 : Hid (Strs x3 d nd (fallX X Y ks) ∧ Strs x3 d' nd' (fallY X Y ks) ∧ nd ≤ 1048576 ∧ nd' ≤ 1048576) := ⟨hf1, hf2, hf3, hf4⟩
  clear hf1 hf2 hf3 hf4 hb3 d0 d1
  go_wp2_with fail
  refine (HOp.out x3 d nd cd d' nd' cd' HC3.out HF3.out.1 HF3.out.2.1 HF3.out.2.2.1 HF3.out.2.2.2).mono ?_
  rintro e x4 ⟨⟨b, nb, cb, b', nb', cb', va, nv, vc, l', rfl, hs4, hm4⟩, hb4⟩
  have HV4 : Hid (BoxN (x4.alloc (.cells #[.slice b nb cb, .slice b' nb' cb', .int .i64 O.ep, .int .i64 O.nx, .slice va nv vc] 35)) x4.heap.size 35 [.slice b nb cb, .slice b' nb' cb', .int .i64 O.ep, .int .i64 O.nx, .slice va nv vc] ∧ StoAt (x4.alloc (.cells #[.slice b nb cb, .slice b' nb' cb', .int .i64 O.ep, .int .i64 O.nx, .slice va nv vc] 35)) x3.heap.size b nb cb O.X b' nb' cb' O.Y va nv vc l' ∧ l'.map UE.u = O.us ∧ w.heap.size + 1 < x3.heap.size) := ⟨BoxN.new _ _ _, hs4.stays ((Below.refl _ _).alloc (Nat.le_refl _) _), hm4, by have := HC3.out.size; omega⟩
  have HC4 : Hid (Below W2.heap.size W2 (x4.alloc (.cells #[.slice b nb cb, .slice b' nb' cb', .int .i64 O.ep, .int .i64 O.nx, .slice va nv vc] 35))) := (HC3.out.trans (hb4.mono HC3.out.size)).alloc (HC3.out.trans (hb4.mono HC3.out.size)).size _
  clear hs4 hm4 hb4 HC3 HF3
  go_upto_region 2 with fail
  obtain ⟨w4, hw4⟩ : ∃ w4, x4.alloc (.cells #[.slice b nb cb, .slice b' nb' cb', .int .i64 O.ep, .int .i64 O.nx, .slice va nv vc] 35) = w4 := ⟨_, rfl⟩
  rw [hw4] at HV4 HC4 ⊢
  clear hw4
  generalize x4.heap.size = bs at *
  obtain ⟨c0, c1, c2, c3, c4, c5⟩ := (show _ ∧ _ ∧ _ ∧ _ ∧ _ ∧ _ from ⟨BoxN.cell (HQ.out _ HC4.out).1 0 rfl, BoxN.cell (HQ.out _ HC4.out).1 1 rfl, BoxN.cell (HQ.out _ HC4.out).1 2 rfl, BoxN.cell (HQ.out _ HC4.out).1 3 rfl, BoxN.cell (HQ.out _ HC4.out).1 4 rfl, BoxN.cell (HQ.out _ HC4.out).1 5 rfl⟩)
  go_wp2_with fail
  refine (HOk.out _ HC4.out).mono ?_
  rintro e y5 ⟨rfl, hb5⟩
  have HV : Hid (BoxN y5 bs 35 [.slice b nb cb, .slice b' nb' cb', .int .i64 O.ep, .int .i64 O.nx, .slice va nv vc] ∧ StoAt y5 x3.heap.size b nb cb O.X b' nb' cb' O.Y va nv vc l' ∧ l'.map UE.u = O.us ∧ w.heap.size + 1 < x3.heap.size) := ⟨HV4.out.1.stays hb5, HV4.out.2.1.stays hb5, HV4.out.2.2.1, HV4.out.2.2.2⟩
  have HCv : Hid (Below W2.heap.size W2 y5) := HC4.out.trans (hb5.mono HC4.out.size)
  clear hb5 HV4 HC4 c0 c1 c2 c3 c4 c5
  cases ok with
  | false =>
    obtain ⟨c0, c1, c2, c3, c4, c5⟩ := (show _ ∧ _ ∧ _ ∧ _ ∧ _ ∧ _ from ⟨BoxN.cell (HQ.out _ HCv.out).1 0 rfl, BoxN.cell (HQ.out _ HCv.out).1 1 rfl, BoxN.cell (HQ.out _ HCv.out).1 2 rfl, BoxN.cell (HQ.out _ HCv.out).1 3 rfl, BoxN.cell (HQ.out _ HCv.out).1 4 rfl, BoxN.cell (HQ.out _ HCv.out).1 5 rfl⟩)
    go_wp2_with fail
    refine (HCp.out _ HCv.out).mono ?_
    rintro e z2 ⟨⟨b, cb, b', cb', va, vc, l', pa, pc, rfl, hs1, hm1, hk1⟩, hb2⟩
    have HC9 : Hid (Below W2.heap.size W2 z2) := HCv.out.trans (hb2.mono HCv.out.size)
    have HSV : Hid (SvAt z2 y5.heap.size b n cb X b' n' cb' Y va un vc l' pa hn pc hs ∧ l'.map UE.u = l.map UE.u ∧ SvBeh y5.heap.size b b' va l' pa) := ⟨hs1, hm1, hk1⟩
    have HBw : Hid (Below w.heap.size w z2) := HB2.out.trans (HC9.out.mono HB2.out.size)
    have hs3 : w.heap.size + 1 < y5.heap.size := by have := HCv.out.size; omega
    obtain ⟨r0, r1, r2, r3, r4, r5⟩ := (show _ ∧ _ ∧ _ ∧ _ ∧ _ ∧ _ from ⟨BoxN.cell (HQ.out _ HC9.out).2 0 rfl, BoxN.cell (HQ.out _ HC9.out).2 1 rfl, BoxN.cell (HQ.out _ HC9.out).2 2 rfl, BoxN.cell (HQ.out _ HC9.out).2 3 rfl, BoxN.cell (HQ.out _ HC9.out).2 4 rfl, BoxN.cell (HQ.out _ HC9.out).2 5 rfl⟩)
    obtain ⟨f0, f1, f2, f3, f4, f5⟩ := (show _ ∧ _ ∧ _ ∧ _ ∧ _ ∧ _ from ⟨BoxN.frozen (HQ.out _ HC9.out).2 0, BoxN.frozen (HQ.out _ HC9.out).2 1, BoxN.frozen (HQ.out _ HC9.out).2 2, BoxN.frozen (HQ.out _ HC9.out).2 3, BoxN.frozen (HQ.out _ HC9.out).2 4, BoxN.frozen (HQ.out _ HC9.out).2 5⟩)
    clear HQ HX HC9 hs1 hm1 hk1 hb2 HCp HOk HFa HOp c0 c1 c2 c3 c4 c5
    go_wp2_with fail
    refine bodyPost_ret (v := .tuple #[.agg #[.slice b n cb, .slice b' n' cb', .int .i64 ep, .int .i64 nx, .slice va un vc, .slice pa hn pc], .bool false]) (by simp [results, Tryz.f17, go_sem, r0, r1, r2, r3, r4, r5]) rfl ?_
    rw [HR.out, if_neg (by simp_all)]
    refine ⟨⟨_, rfl, b, n, cb, b', n', cb', va, un, vc, l', pa, hn, pc, rfl, (HSV.out.1.set6 (by omega) _ _ _ _ _ _).low (by omega), HSV.out.2.1, fun h => ?_⟩, below_set6 HBw.out (by omega) _ _ _ _ _ _⟩
    obtain ⟨m9, h1, h2, h3⟩ := HSV.out.2.2; exact ⟨m9, by omega, h2, h3⟩
  | true =>
    cases hOo : O.ok with
    | false =>
      rw [hOo] at HR
      obtain ⟨c0, c1, c2, c3, c4, c5⟩ := (show _ ∧ _ ∧ _ ∧ _ ∧ _ ∧ _ from ⟨BoxN.cell (HQ.out _ HCv.out).1 0 rfl, BoxN.cell (HQ.out _ HCv.out).1 1 rfl, BoxN.cell (HQ.out _ HCv.out).1 2 rfl, BoxN.cell (HQ.out _ HCv.out).1 3 rfl, BoxN.cell (HQ.out _ HCv.out).1 4 rfl, BoxN.cell (HQ.out _ HCv.out).1 5 rfl⟩)
      go_wp2_with fail
      refine (HCp.out _ HCv.out).mono ?_
      rintro e z2 ⟨⟨b, cb, b', cb', va, vc, l', pa, pc, rfl, hs1, hm1, hk1⟩, hb2⟩
      have HC9 : Hid (Below W2.heap.size W2 z2) := HCv.out.trans (hb2.mono HCv.out.size)
      have HSV : Hid (SvAt z2 y5.heap.size b n cb X b' n' cb' Y va un vc l' pa hn pc hs ∧ l'.map UE.u = l.map UE.u ∧ SvBeh y5.heap.size b b' va l' pa) := ⟨hs1, hm1, hk1⟩
      have HBw : Hid (Below w.heap.size w z2) := HB2.out.trans (HC9.out.mono HB2.out.size)
      have hs3 : w.heap.size + 1 < y5.heap.size := by have := HCv.out.size; omega
      obtain ⟨r0, r1, r2, r3, r4, r5⟩ := (show _ ∧ _ ∧ _ ∧ _ ∧ _ ∧ _ from ⟨BoxN.cell (HQ.out _ HC9.out).2 0 rfl, BoxN.cell (HQ.out _ HC9.out).2 1 rfl, BoxN.cell (HQ.out _ HC9.out).2 2 rfl, BoxN.cell (HQ.out _ HC9.out).2 3 rfl, BoxN.cell (HQ.out _ HC9.out).2 4 rfl, BoxN.cell (HQ.out _ HC9.out).2 5 rfl⟩)
      obtain ⟨f0, f1, f2, f3, f4, f5⟩ := (show _ ∧ _ ∧ _ ∧ _ ∧ _ ∧ _ from ⟨BoxN.frozen (HQ.out _ HC9.out).2 0, BoxN.frozen (HQ.out _ HC9.out).2 1, BoxN.frozen (HQ.out _ HC9.out).2 2, BoxN.frozen (HQ.out _ HC9.out).2 3, BoxN.frozen (HQ.out _ HC9.out).2 4, BoxN.frozen (HQ.out _ HC9.out).2 5⟩)
      clear HQ HX HC9 hs1 hm1 hk1 hb2 HCp HOk HFa HOp c0 c1 c2 c3 c4 c5
      go_wp2_with fail
      refine bodyPost_ret (v := .tuple #[.agg #[.slice b n cb, .slice b' n' cb', .int .i64 ep, .int .i64 nx, .slice va un vc, .slice pa hn pc], .bool false]) (by simp [results, Tryz.f17, go_sem, r0, r1, r2, r3, r4, r5]) rfl ?_
      rw [HR.out, if_neg (by simp_all)]
      refine ⟨⟨_, rfl, b, n, cb, b', n', cb', va, un, vc, l', pa, hn, pc, rfl, (HSV.out.1.set6 (by omega) _ _ _ _ _ _).low (by omega), HSV.out.2.1, fun h => ?_⟩, below_set6 HBw.out (by omega) _ _ _ _ _ _⟩
      obtain ⟨m9, h1, h2, h3⟩ := HSV.out.2.2; exact ⟨m9, by omega, h2, h3⟩
    | true =>
      rw [hOo] at HR
      obtain ⟨o0, o1, o2, o3, o4⟩ := (show _ ∧ _ ∧ _ ∧ _ ∧ _ from ⟨BoxN.cell HV.out.1 0 rfl, BoxN.cell HV.out.1 1 rfl, BoxN.cell HV.out.1 2 rfl, BoxN.cell HV.out.1 3 rfl, BoxN.cell HV.out.1 4 rfl⟩)
      obtain ⟨r0, r1, r2, r3, r4, r5⟩ := (show _ ∧ _ ∧ _ ∧ _ ∧ _ ∧ _ from ⟨BoxN.cell (HQ.out _ HCv.out).2 0 rfl, BoxN.cell (HQ.out _ HCv.out).2 1 rfl, BoxN.cell (HQ.out _ HCv.out).2 2 rfl, BoxN.cell (HQ.out _ HCv.out).2 3 rfl, BoxN.cell (HQ.out _ HCv.out).2 4 rfl, BoxN.cell (HQ.out _ HCv.out).2 5 rfl⟩)
      obtain ⟨f0, f1, f2, f3, f4, f5⟩ := (show _ ∧ _ ∧ _ ∧ _ ∧ _ ∧ _ from ⟨BoxN.frozen (HQ.out _ HCv.out).2 0, BoxN.frozen (HQ.out _ HCv.out).2 1, BoxN.frozen (HQ.out _ HCv.out).2 2, BoxN.frozen (HQ.out _ HCv.out).2 3, BoxN.frozen (HQ.out _ HCv.out).2 4, BoxN.frozen (HQ.out _ HCv.out).2 5⟩)
      have HBw : Hid (Below w.heap.size w y5) := HB2.out.trans (HCv.out.mono HB2.out.size)
      clear HQ HX HCv HCp HOk HFa HOp
      go_wp2_with fail
      refine bodyPost_ret (v := .tuple #[.agg #[.slice b nb cb, .slice b' nb' cb', .int .i64 O.ep, .int .i64 O.nx, .slice va nv vc, .slice none 0 0], .bool true]) (by simp [results, Tryz.f17, go_sem, r0, r1, r2, r3, r4, r5]) rfl ?_
      rw [HR.out, if_pos (by simp_all)]
      refine ⟨⟨_, rfl, b, nb, cb, b', nb', cb', va, nv, vc, l', none, 0, 0, rfl, ⟨(HV.out.2.1.set6 (by have := HV.out.2.2.2; omega) _ _ _ _ _ _).low (by have := HV.out.2.2.2; omega), World.ownsRow_nil _ _ _ _, by simp⟩, HV.out.2.2.1, fun _ => ⟨y5.heap.size, HBw.out.size, HV.out.2.1.inn, fun q e => by cases e⟩⟩, below_set6 HBw.out (by omega) _ _ _ _ _ _⟩

end Go.Proofs.YtclkfjlnhcccdaaGreatDoor

namespace Go.Proofs.YtclkfjlnhcccdaaGreatDoor
open Go.RowKit Go.ChangeShapes Go.WideShapes
set_option linter.unusedVariables false

theorem Bools.opened {H : Type} {enc : TypeId × Value → H} {w : World} {fuel : Nat} {v : Value} {x : DataW H × List MemPlace} (h : DataW.trod enc Tryz.prog w 0 (fun _ => true) true fuel 47 [v] = some x) :
    ∃ a len cap xs, v = .slice a len cap ∧ len ≤ maxLen ∧ Bools w a len xs := by
  rcases Go.Deep.open_slice1 Tryz.underlying47 (by kernel_rfl) h with ⟨hcs, _⟩ | ⟨a, len, cap, m, n, V, D, Pl, hcs, _, hl, hm, hmm, _, hc⟩
  · simp at hcs
    exact ⟨none, 0, 0, [], hcs, Nat.zero_le _, rfl, trivial, .inl rfl⟩
  · simp at hcs hmm
    subst hmm
    have hs : ∀ i, i < m → ∃ f : Bool, V i = .bool f ∧ True := by
      intro i hi
      obtain ⟨_, h0⟩ := hc i hi
      obtain ⟨s, e0, _⟩ := DataW.trod_bool Tryz.underlying4 h0
      exact ⟨s, by simpa using e0, trivial⟩
    refine ⟨some a, len, m, (List.range len).map fun i => if hi : i < m then Classical.choose (hs i hi) else false, hcs, by omega, by simp, trivial, ?_⟩
    · by_cases h0 : len = 0
      · exact .inl h0
      · right
        obtain ⟨b, off, spot⟩ := a
        have hspot : spot = none := by simpa [Addr.add] using World.cell?_spot (hc 0 (by omega)).1
        subst hspot
        have key : ∀ i (hi : i < m), w.cell? ⟨b, off + i, none⟩ = some (.bool (Classical.choose (hs i hi))) := by
          intro i hi
          have hq := Classical.choose_spec (hs i hi)
          have hcc := (hc i hi).1
          rw [← hq.1]
          by_cases hi0 : i = 0
          · subst hi0
            simpa [Addr.add] using hcc
          · simpa [Addr.add, hi0] using hcc
        refine ⟨b, off, rfl, lt_of_cell (key 0 (by omega)), fun i hi => ?_⟩
        have hil : i < len := by simpa using hi
        have := key i (by omega)
        simpa [show i < m by omega] using this

end Go.Proofs.YtclkfjlnhcccdaaGreatDoor
