/- What the library's IndexFunc and ContainsFunc answer of texts that may be too long. -/
import Derived.Test.YtnbmlkkjgecigarSecLongI
namespace Go.Proofs.Ytnbmlkkjgecigar
open Go.RowKit
set_option linter.unusedVariables false

/-- Whether one of the texts is too long. -/
def anyL (xs : List ByteArray) : Bool := !xs.all fitsD

theorem anyL_false {xs : List ByteArray} (h : ∀ (k : Nat) (x : ByteArray), xs[k]? = some x → fitsD x = true) : anyL xs = false := by
  have : xs.all fitsD = true := by
    rw [List.all_eq_true]
    intro f hf
    obtain ⟨k, hk, rfl⟩ := List.mem_iff_getElem.1 hf
    exact h k _ (List.getElem?_eq_getElem hk)
  rw [anyL, this]
  rfl

theorem anyL_true {xs : List ByteArray} {k : Nat} {x : ByteArray} (h : xs[k]? = some x) (hw : fitsD x = false) : anyL xs = true := by
  have : xs.all fitsD = false := by
    rw [List.all_eq_false]
    exact ⟨x, List.mem_of_getElem? h, by simp [hw]⟩
  rw [anyL, this]
  rfl

set_option maxRecDepth 10000 in
set_option maxHeartbeats 800000 in
theorem implIdxL_any (a : Option Addr) (len cap : Nat) (xs : List ByteArray) (w : World) (hx : Strs w a len xs) (hl : len ≤ 1099511627776) :
    Calls Try.prog 32 #[.slice a len cap, .func (.func 26) #[] #[]] w fun e w' => (∃ k : Int, e = .returned (.int .i64 k) ∧ decide (0 ≤ k) = anyL xs) ∧ Below w.heap.size w w' := by
  have HX : Hid (Strs w a len xs) := hx
  have HL : Hid (xs.length = len) := hx.1
  clear hx
  go_enter Try.func32, Try.ntmps32
  go_wp2_with fail
  go_loopw [8] (fun v wr => ∃ k : Nat, k ≤ len ∧ v = .int .i64 k ∧ Hid (Below w.heap.size w wr) ∧ Hid (∀ (j : Nat) (x : ByteArray), j < k → xs[j]? = some x → fitsD x = true)) (fun v _ => len - (intOf v).toNat)
  case atStart => exact ⟨0, Nat.zero_le _, rfl, Below.refl _ _, fun j _ hj => absurd hj (Nat.not_lt_zero _)⟩
  case round =>
    obtain ⟨k, hk, rfl, HB, HN⟩ := hrel
    by_cases hlt : k < len
    · have hki : (k : Int) < (len : Int) := by omega
      obtain ⟨b, off, x, rfl, hb, hkx, hp⟩ := (HX.out.below HB.out).at hlt
      have hxm := HX.out.2.1 x (List.mem_of_getElem? hkx)
      have HK : Hid (xs[k]? = some x) := hkx
      have HO : Hid (∀ W : World, Calls Try.prog 26 #[.string x] W fun e w' => e = .returned (.bool (!fitsD x)) ∧ w' = W) := fun W => implLong_any x W hxm
      clear hkx hxm
      go_wp2_with fail
      refine (HO.out _).mono ?_
      rintro e w1 ⟨rfl, rfl⟩
      cases hpr : fitsD x
      case false =>
        have HE : Hid (anyL xs = true) := anyL_true HK.out hpr
        clear hpr
        go_wp2_with fail
        go_ret
        exact ⟨⟨k, rfl, by rw [HE.out]; simp⟩, HB.out⟩
      case true =>
        have HN2 : Hid (∀ (j : Nat) (x : ByteArray), j < k + 1 → xs[j]? = some x → fitsD x = true) := fun j u hj hju => by
          by_cases e : j = k
          · subst e
            rw [HK.out] at hju
            injection hju with e1
            rw [← e1]
            exact hpr
          · exact HN.out j u (by omega) hju
        clear hpr HN
        go_wp2_with fail
        go_roundw
        case rel => exact ⟨k + 1, by omega, by go_num, HB, HN2⟩
        case measure => simp [intOf]; omega
    · have HE : Hid (anyL xs = false) := anyL_false fun j x hjx => HN.out j x (by have := (List.getElem?_eq_some_iff.1 hjx).1; have := HL.out; omega) hjx
      have hkl : len = k := by omega
      clear HN HX HL
      subst hkl
      go_wp2_with fail
      go_ret
      exact ⟨⟨-1, rfl, by rw [HE.out]; rfl⟩, HB.out⟩

set_option maxRecDepth 10000 in
theorem implAnyL_any (a : Option Addr) (len cap : Nat) (xs : List ByteArray) (w : World) (hx : Strs w a len xs) (hl : len ≤ 1099511627776) :
    Calls Try.prog 25 #[.slice a len cap, .func (.func 26) #[] #[]] w fun e w' => e = .returned (.bool (anyL xs)) ∧ Below w.heap.size w w' := by
  go_enter Try.func25, Try.ntmps25
  go_wp2_with fail
  refine (implIdxL_any a len cap xs w hx hl).mono ?_
  rintro e w1 ⟨⟨k, rfl, hk⟩, hb1⟩
  have HK : Hid (decide (0 ≤ k) = anyL xs) := hk
  have HB1 : Hid (Below w.heap.size w w1) := hb1
  clear hk hb1 hx
  go_wp2_with fail
  go_ret
  exact ⟨ret_bD HK.out, HB1.out⟩

end Go.Proofs.Ytnbmlkkjgecigar
