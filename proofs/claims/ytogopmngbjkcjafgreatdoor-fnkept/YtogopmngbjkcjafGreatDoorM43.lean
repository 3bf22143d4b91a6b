/- What a put does: the model; no program in it. What the program's PutSector answers. -/
import Derived.Test.YtogopmngbjkcjafGreatDoorM09
import Derived.Test.YtogopmngbjkcjafGreatDoorM42
import Derived.Test.YtogopmngbjkcjafGreatDoorM26
import Derived.Test.YtogopmngbjkcjafGreatDoorM36
import Derived.Test.YtogopmngbjkcjafGreatDoorM42
import Derived.Test.YtogopmngbjkcjafGreatDoorM35
import Derived.Deep.CutBlock
namespace Go.Proofs.YtogopmngbjkcjafGreatDoor
open Go.RowKit
set_option linter.unusedVariables false

/-- Whether a sector may be put. -/
def mayPut (xs ys : List ByteArray) (i : Int) (s : ByteArray) : Bool := okD xs ys && decide (0 ≤ i ∧ i ≤ (xs.length : Int) - 1) && decide (s.size ≤ 64)

/-- The sectors behind a put. -/
def putX (xs ys : List ByteArray) (i : Int) (s : ByteArray) : List ByteArray := if mayPut xs ys i s then xs.set i.toNat s else xs

theorem putX_len (xs ys : List ByteArray) (i : Int) (s : ByteArray) : (putX xs ys i s).length = xs.length := by
  rw [putX]
  split
  · rw [List.length_set]
  · rfl

end Go.Proofs.YtogopmngbjkcjafGreatDoor

namespace Go.Proofs.YtogopmngbjkcjafGreatDoor
open Go.RowKit
set_option linter.unusedVariables false

theorem blkOf_sP (a : Option Addr) (n c : Nat) : blkOf (.slice a n c) = a.map (·.block) := by cases a <;> rfl

set_option maxRecDepth 10000 in
set_option maxHeartbeats 3200000 in
theorem implPutD_any (a : Option Addr) (n ca : Nat) (xs : List ByteArray) (a' : Option Addr) (n' ca' : Nat) (ys : List ByteArray) (i : Int) (s : ByteArray) (w : World) (h1 : Strs w a n xs) (h2 : Strs w a' n' ys) (hn : n ≤ 2097152) (hn' : n' ≤ 2097152) (hs : s.size ≤ maxLen) :
    Calls Tryz.prog 105 #[.agg #[.slice a n ca, .slice a' n' ca'], .int .i64 i, .string s] w fun e w' => (∃ v, e = .returned (.tuple #[v, .bool (mayPut xs ys i s)]) ∧ AnsD w.heap.size (putX xs ys i s) ys v w') ∧ Below w.heap.size w w' := by
  have HX : Hid (∀ W, Below w.heap.size w W → Strs W a n xs ∧ Strs W a' n' ys) := fun W h => ⟨h1.below h, h2.below h⟩
  have HLn : Hid (xs.length = n ∧ ys.length = n') := ⟨h1.1, h2.1⟩
  obtain ⟨W2, hW2⟩ : ∃ W2, (w.alloc (.cells #[.slice a n ca, .slice a' n' ca'] 26)).alloc (.cells #[.slice none 0 0, .slice none 0 0] 26) = W2 := ⟨_, rfl⟩
  have HE : Hid ((w.alloc (.cells #[.slice a n ca, .slice a' n' ca'] 26)).alloc (.cells #[.slice none 0 0, .slice none 0 0] 26) = W2) := hW2
  have HB2 : Hid (Below w.heap.size w W2) := by show Below _ _ _; rw [← hW2]; exact ((Below.refl _ _).alloc (Nat.le_refl _) _).alloc (by simp) _
  have HZ2 : Hid (W2.heap.size = w.heap.size + 2) := by show _ = _; rw [← hW2]; simp
  have HQ1 : Hid (Box2R W2 w.heap.size 26 (.slice a n ca) (.slice a' n' ca')) := by show Box2R _ _ _ _ _; rw [← hW2]; exact (Box2R.new _ _ _ _).alloc _
  have HQ2 : Hid (Box2R W2 (w.heap.size + 1) 26 (.slice none 0 0) (.slice none 0 0)) := by
    show Box2R _ _ _ _ _
    rw [← hW2]
    have := Box2R.new (w.alloc (.cells #[.slice a n ca, .slice a' n' ca'] 26)) 26 (.slice none 0 0) (.slice none 0 0)
    rwa [World.size_alloc] at this
  clear hW2 h1 h2
  go_enter Tryz.func105, Tryz.ntmps105
  go_upto_region 1 with fail
  rw [HE.out]
  clear HE
  obtain ⟨c0, c1⟩ := HQ1.out.cells
  go_wp2_with fail
  refine (implDcopy_any a n ca xs a' n' ca' ys _ (HX.out _ HB2.out).1 (HX.out _ HB2.out).2 hn hn').mono ?_
  rintro e x3 ⟨⟨v, rfl, A, C, A', C', rfl, o1, o2, hap⟩, hb3⟩
  rw [HLn.out.1] at o1 ⊢
  rw [HLn.out.2] at o2 ⊢
  have HD : Hid (DOut w (x3.alloc (.cells #[.slice A n C, .slice A' n' C'] 26)) (.slice a n ca) (.slice a' n' ca') x3.heap.size (.slice A n C) (.slice A' n' C') n n' xs ys) := DOut.new HQ1.out HQ2.out HZ2.out HB2.out hb3 o1 o2 (fun q e e2 => by rw [blkOf_sP] at e e2; exact hap q e e2)
  clear o1 o2 hap hb3 HQ1 HQ2 HB2 HZ2 c0 c1
  go_upto_region 2 with fail
  obtain ⟨W3, hW3⟩ : ∃ W3, x3.alloc (.cells #[.slice A n C, .slice A' n' C'] 26) = W3 := ⟨_, rfl⟩
  rw [hW3] at HD ⊢
  clear hW3
  generalize x3.heap.size = o at *
  obtain ⟨c0, c1⟩ := HD.out.1.cells
  go_wp2_with fail
  refine (implDok_any a n ca xs a' n' ca' ys _ (HX.out _ HD.out.2.2.2.2.2.2.2.2).1 (HX.out _ HD.out.2.2.2.2.2.2.2.2).2 (by omega) (by omega)).mono ?_
  rintro e x4 ⟨rfl, hb4⟩
  have HDx : Hid (DOut w x4 (.slice a n ca) (.slice a' n' ca') o (.slice A n C) (.slice A' n' C') n n' xs ys) := HD.out.stays hb4
  clear hb4 HD c0 c1
  cases hok : okD xs ys
  · have HM : Hid (mayPut xs ys i s = false) := by show _ = _; rw [mayPut, hok]; rfl
    have HP : Hid (putX xs ys i s = xs) := by show _ = _; rw [putX, HM.out]; rfl
    clear hok
    obtain ⟨c0, c1⟩ := HDx.out.2.2.1.cells
    obtain ⟨r0, r1⟩ := HDx.out.2.1.cells
    have f0 := HDx.out.2.1.frozen 0
    have f1 := HDx.out.2.1.frozen 1
    have HR := (show Hid _ from HDx.out.done)
    clear HDx
    go_wp2_with fail
    refine bodyPost_ret (v := .tuple #[.agg #[.slice A n C, .slice A' n' C'], .bool false]) (by simp [results, Tryz.f105, go_sem, r0, r1]) rfl ?_
    exact ⟨⟨_, by rw [HM.out], by rw [HP.out]; exact HR.out.1⟩, HR.out.2⟩
  obtain ⟨c0, c1⟩ := HDx.out.1.cells
  go_wp2_with fail
  refine (implHas_any a n ca a' n' ca' i _ (by omega)).mono ?_
  rintro e x5 ⟨rfl, hb5⟩
  have HD5 : Hid (DOut w x5 (.slice a n ca) (.slice a' n' ca') o (.slice A n C) (.slice A' n' C') n n' xs ys) := HDx.out.stays hb5
  clear hb5 HDx c0 c1
  have HDx := HD5
  clear HD5
  by_cases hin : 0 ≤ i ∧ i ≤ (n : Int) - 1
  case neg =>
    have HM : Hid (mayPut xs ys i s = false) := by show _ = _; rw [mayPut, hok, HLn.out.1, decide_eq_false hin]; rfl
    have HP : Hid (putX xs ys i s = xs) := by show _ = _; rw [putX, HM.out]; rfl
    rw [show hasB n i = false from decide_eq_false (by omega)]
    clear hok hin
    obtain ⟨c0, c1⟩ := HDx.out.2.2.1.cells
    obtain ⟨r0, r1⟩ := HDx.out.2.1.cells
    have f0 := HDx.out.2.1.frozen 0
    have f1 := HDx.out.2.1.frozen 1
    have HR := (show Hid _ from HDx.out.done)
    clear HDx
    go_wp2_with fail
    refine bodyPost_ret (v := .tuple #[.agg #[.slice A n C, .slice A' n' C'], .bool false]) (by simp [results, Tryz.f105, go_sem, r0, r1]) rfl ?_
    exact ⟨⟨_, by rw [HM.out], by rw [HP.out]; exact HR.out.1⟩, HR.out.2⟩
  rw [show hasB n i = true from decide_eq_true (by omega)]
  by_cases hsz : s.size ≤ 64
  case neg =>
    have HM : Hid (mayPut xs ys i s = false) := by show _ = _; rw [mayPut, decide_eq_false hsz, Bool.and_false]
    have HP : Hid (putX xs ys i s = xs) := by show _ = _; rw [putX, HM.out]; rfl
    have hft : fitsD s = false := decide_eq_false hsz
    clear hok hin
    go_wp2_with fail
    refine (implLong_any s _ hs).mono ?_
    rintro e x6 ⟨rfl, rfl⟩
    rw [hft]
    obtain ⟨c0, c1⟩ := HDx.out.2.2.1.cells
    obtain ⟨r0, r1⟩ := HDx.out.2.1.cells
    have f0 := HDx.out.2.1.frozen 0
    have f1 := HDx.out.2.1.frozen 1
    have HR := (show Hid _ from HDx.out.done)
    clear HDx
    go_wp2_with fail
    refine bodyPost_ret (v := .tuple #[.agg #[.slice A n C, .slice A' n' C'], .bool false]) (by simp [results, Tryz.f105, go_sem, r0, r1]) rfl ?_
    exact ⟨⟨_, by rw [HM.out], by rw [HP.out]; exact HR.out.1⟩, HR.out.2⟩
  have HM : Hid (mayPut xs ys i s = true) := by show _ = _; rw [mayPut, hok, HLn.out.1, decide_eq_true hin, decide_eq_true hsz]; rfl
  have hft : fitsD s = true := decide_eq_true hsz
  obtain ⟨K, rfl⟩ := Int.eq_ofNat_of_zero_le hin.1
  have hK : K < n := by omega
  have HP : Hid (putX xs ys (K : Int) s = xs.set K s) := by show _ = _; rw [putX, HM.out, if_pos rfl, Int.toNat_natCast]
  clear hok
  obtain ⟨g, rfl⟩ : ∃ g, A = some ⟨g, 0, none⟩ := by
    rcases HDx.out.2.2.2.1.1.2 with ⟨_, h0⟩ | ⟨g, cap', cur, he, _⟩
    · omega
    · injection he with e1 _ _
      exact ⟨g, e1⟩
  have hKi : (K : Int) < (n : Int) := by omega
  go_wp2_with fail
  refine (implLong_any s _ hs).mono ?_
  rintro e x6 ⟨rfl, rfl⟩
  rw [hft]
  obtain ⟨c0, c1⟩ := HDx.out.2.2.1.cells
  have hcl : (scells xs).length = n := by rw [scells_len, HLn.out.1]
  have fz : x6.frozen? ⟨g, K, none⟩ = false := HDx.out.2.2.2.1.1.frozenAt _
  obtain ⟨u0, hu0⟩ : ∃ u, x6.cell? ⟨g, K, none⟩ = some u := by
    rw [HDx.out.2.2.2.1.1.cellAt _ (by omega)]
    exact ⟨_, List.getElem?_eq_getElem (by omega)⟩
  clear hcl
  have HD6 : Hid (DOut w (x6.setCell ⟨g, K, none⟩ (.string s)) (.slice a n ca) (.slice a' n' ca') o (.slice (some ⟨g, 0, none⟩) n C) (.slice A' n' C') n n' (xs.set K s) ys) := HDx.out.put0 s hs
  clear HDx
  go_upto_region 5 with fail
  obtain ⟨W6, hW6⟩ : ∃ W6, x6.setCell ⟨g, K, none⟩ (.string s) = W6 := ⟨_, rfl⟩
  rw [hW6] at HD6 ⊢
  clear hW6 c0 c1 fz hu0
  have HDx := HD6
  clear HD6
  obtain ⟨c0, c1⟩ := HDx.out.2.2.1.cells
  obtain ⟨r0, r1⟩ := HDx.out.2.1.cells
  have f0 := HDx.out.2.1.frozen 0
  have f1 := HDx.out.2.1.frozen 1
  have HR := (show Hid _ from HDx.out.done)
  clear HDx
  go_wp2_with fail
  refine bodyPost_ret (v := .tuple #[.agg #[.slice (some ⟨g, 0, none⟩) n C, .slice A' n' C'], .bool true]) (by simp [results, Tryz.f105, go_sem, r0, r1]) rfl ?_
  exact ⟨⟨_, by rw [HM.out], by rw [HP.out]; exact HR.out.1⟩, HR.out.2⟩

end Go.Proofs.YtogopmngbjkcjafGreatDoor
