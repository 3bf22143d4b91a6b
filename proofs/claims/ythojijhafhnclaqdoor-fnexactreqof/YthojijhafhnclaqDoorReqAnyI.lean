/- What the library's IndexFunc and ContainsFunc answer of fields. -/
import Derived.Test.YthojijhafhnclaqDoorReqWrongI
namespace Go.Proofs.YthojijhafhnclaqDoor
open Go.RowKit
set_option linter.unusedVariables false

theorem ret_i {a b : Int} (h : a = b) : Ending.returned (.int .i64 a) = .returned (.int .i64 b) := by rw [h]

/-- Whether one of the names is wrong. -/
def anyW (xs : List Fld) : Bool := xs.any fun f => wrongN f.1.toList

theorem anyW_false {xs : List Fld} (h : ∀ (k : Nat) (x y : ByteArray), xs[k]? = some (x, y) → wrongN x.toList = false) : anyW xs = false := by
  rw [anyW, List.any_eq_false]
  intro f hf
  obtain ⟨k, hk, rfl⟩ := List.mem_iff_getElem.1 hf
  have e := h k xs[k].1 xs[k].2 (List.getElem?_eq_getElem hk)
  simp [e]

theorem anyW_true {xs : List Fld} {k : Nat} {x y : ByteArray} (h : xs[k]? = some (x, y)) (hw : wrongN x.toList = true) : anyW xs = true := by
  rw [anyW, List.any_eq_true]
  exact ⟨(x, y), List.mem_of_getElem? h, hw⟩

theorem anyW_none {xs : List Fld} (h : anyW xs = false) : ∀ (k : Nat) (x y : ByteArray), xs[k]? = some (x, y) → wrongN x.toList = false := fun k x y hk => by
  cases hw : wrongN x.toList
  · rfl
  · rw [anyW_true hk hw] at h; cases h

set_option maxRecDepth 10000 in
set_option maxHeartbeats 800000 in
theorem implIdxW_any (a : Option Addr) (len cap : Nat) (xs : List Fld) (w : World) (hx : Flds w a len xs) (hl : len ≤ 1099511627776) :
    Calls Tryd.prog 49 #[.slice a len cap, .func (.func 43) #[] #[]] w fun e w' => (∃ k : Int, e = .returned (.int .i64 k) ∧ decide (0 ≤ k) = anyW xs) ∧ Below w.heap.size w w' := by
  have HX : Hid (Flds w a len xs) := hx
  have HL : Hid (xs.length = len) := hx.1
  clear hx
  go_enter Tryd.func49, Tryd.ntmps49
  go_wp2_with fail
  go_loopw [8] (fun v wr => ∃ k : Nat, k ≤ len ∧ v = .int .i64 k ∧ Hid (Below w.heap.size w wr) ∧ Hid (∀ (j : Nat) (x y : ByteArray), j < k → xs[j]? = some (x, y) → wrongN x.toList = false)) (fun v _ => len - (intOf v).toNat)
  case atStart => exact ⟨0, Nat.zero_le _, rfl, Below.refl _ _, fun j _ _ hj => absurd hj (Nat.not_lt_zero _)⟩
  case round =>
    obtain ⟨k, hk, rfl, HB, HN⟩ := hrel
    by_cases hlt : k < len
    · have hki : (k : Int) < (len : Int) := by omega
      obtain ⟨b, off, x, y, rfl, hb, hkx, hp, hq⟩ := (HX.out.below HB.out).at hlt
      have hxm := (HX.out.2.1 (x, y) (List.mem_of_getElem? hkx)).1
      unfold maxLen at hxm
      dsimp only at hxm
      have HK : Hid (xs[k]? = some (x, y)) := hkx
      have HO : Hid (∀ W : World, Calls Tryd.prog 43 #[.agg #[.string x, .string y]] W fun e w' => e = .returned (.bool (wrongN x.toList)) ∧ Below W.heap.size W w') := fun W => implWrong_any x y W (by omega)
      clear hkx hxm
      go_wp2_with fail
      refine (HO.out _).mono ?_
      rintro e w1 ⟨rfl, hb1⟩
      have HB1 : Hid (Below w.heap.size w w1) := HB.out.trans (hb1.mono HB.out.size)
      clear hb1
      cases hpr : wrongN x.toList
      case true =>
        have HE : Hid (anyW xs = true) := anyW_true HK.out hpr
        clear hpr
        go_wp2_with fail
        go_ret
        exact ⟨⟨k, rfl, by rw [HE.out]; simp⟩, HB1.out⟩
      case false =>
        have HN2 : Hid (∀ (j : Nat) (x y : ByteArray), j < k + 1 → xs[j]? = some (x, y) → wrongN x.toList = false) := fun j u v hj hju => by
          by_cases e : j = k
          · subst e
            rw [HK.out] at hju
            injection hju with e1
            injection e1 with e1 _
            rw [← e1]
            exact hpr
          · exact HN.out j u v (by omega) hju
        clear hpr HN
        go_wp2_with fail
        go_roundw
        case rel => exact ⟨k + 1, by omega, by go_num, HB1, HN2⟩
        case measure => simp [intOf]; omega
    · have HE : Hid (anyW xs = false) := anyW_false fun j x y hjx => HN.out j x y (by have := (List.getElem?_eq_some_iff.1 hjx).1; have := HL.out; omega) hjx
      have hkl : len = k := by omega
      clear HN HX HL
      subst hkl
      go_wp2_with fail
      go_ret
      exact ⟨⟨-1, rfl, by rw [HE.out]; rfl⟩, HB.out⟩

set_option maxRecDepth 10000 in
theorem implAnyW_any (a : Option Addr) (len cap : Nat) (xs : List Fld) (w : World) (hx : Flds w a len xs) (hl : len ≤ 1099511627776) :
    Calls Tryd.prog 42 #[.slice a len cap, .func (.func 43) #[] #[]] w fun e w' => e = .returned (.bool (anyW xs)) ∧ Below w.heap.size w w' := by
  go_enter Tryd.func42, Tryd.ntmps42
  go_wp2_with fail
  refine (implIdxW_any a len cap xs w hx hl).mono ?_
  rintro e w1 ⟨⟨k, rfl, hk⟩, hb1⟩
  have HK : Hid (decide (0 ≤ k) = anyW xs) := hk
  have HB1 : Hid (Below w.heap.size w w1) := hb1
  clear hk hb1 hx
  go_wp2_with fail
  go_ret
  exact ⟨ret_b HK.out, HB1.out⟩

end Go.Proofs.YthojijhafhnclaqDoor
