/- Disks that are right, and what is read off them; no program in it. What the program's sectorLong and hasSector answer. What the library's IndexFunc and ContainsFunc answer of texts that may be too long. What the program's DiskOk answers. -/
import Derived.Test.YtenkpgnkkkgdmauDoorM01
import Derived.Test.YtenkpgnkkkgdmauDoorM04
import Derived.Test.YtenkpgnkkkgdmauDoorM04
namespace Go.Proofs.YtenkpgnkkkgdmauDoor
open Go.RowKit
set_option linter.unusedVariables false

/-- Whether a sector may be as it is. -/
def fitsD (x : ByteArray) : Bool := decide (x.size ≤ 64)

/-- A disk that is right. -/
def okD (xs ys : List ByteArray) : Bool := decide (xs.length = ys.length ∧ xs.length ≤ 200) && (xs.all fitsD && ys.all fitsD)

theorem okD_len {xs ys : List ByteArray} (h : ¬ (xs.length = ys.length ∧ xs.length ≤ 200)) : okD xs ys = false := by
  rw [okD, decide_eq_false h, Bool.false_and]

theorem okD_bad {xs ys : List ByteArray} {k : Nat} {x y : ByteArray} (hx : xs[k]? = some x) (hy : ys[k]? = some y) (h : 64 < x.size ∨ 64 < y.size) : okD xs ys = false := by
  rcases h with h | h
  · have : xs.all fitsD = false := by
      rw [List.all_eq_false]
      exact ⟨x, List.mem_of_getElem? hx, by simp [fitsD]; omega⟩
    rw [okD, this, Bool.false_and, Bool.and_false]
  · have : ys.all fitsD = false := by
      rw [List.all_eq_false]
      exact ⟨y, List.mem_of_getElem? hy, by simp [fitsD]; omega⟩
    rw [okD, this, Bool.and_false, Bool.and_false]

theorem okD_good {xs ys : List ByteArray} (hl : xs.length = ys.length) (hb : xs.length ≤ 200) (h : ∀ (i : Nat) (x y : ByteArray), xs[i]? = some x → ys[i]? = some y → x.size ≤ 64 ∧ y.size ≤ 64) : okD xs ys = true := by
  have h1 : xs.all fitsD = true := by
    rw [List.all_eq_true]
    intro x hx
    obtain ⟨i, hi, rfl⟩ := List.mem_iff_getElem.1 hx
    have := (h i _ _ (List.getElem?_eq_getElem hi) (List.getElem?_eq_getElem (by omega))).1
    simp [fitsD, this]
  have h2 : ys.all fitsD = true := by
    rw [List.all_eq_true]
    intro y hy
    obtain ⟨i, hi, rfl⟩ := List.mem_iff_getElem.1 hy
    have := (h i _ _ (List.getElem?_eq_getElem (by omega)) (List.getElem?_eq_getElem hi)).2
    simp [fitsD, this]
  rw [okD, h1, h2, decide_eq_true ⟨hl, hb⟩]
  rfl

theorem okD_iff {xs ys : List ByteArray} : okD xs ys = true ↔ xs.length = ys.length ∧ xs.length ≤ 200 ∧ (∀ x ∈ xs, x.size ≤ 64) ∧ ∀ y ∈ ys, y.size ≤ 64 := by
  simp [okD, fitsD, List.all_eq_true, and_assoc]

/-- The sector at i. -/
def secAt (xs : List ByteArray) (i : Int) : ByteArray := if 0 ≤ i ∧ i < xs.length then xs.getD i.toNat ⟨#[]⟩ else ⟨#[]⟩

end Go.Proofs.YtenkpgnkkkgdmauDoor

namespace Go.Proofs.YtenkpgnkkkgdmauDoor
open Go.RowKit
set_option linter.unusedVariables false

theorem ret_bD {a b : Bool} (h : a = b) : Ending.returned (.bool a) = .returned (.bool b) := by rw [h]

theorem implLong_any (s : ByteArray) (w : World) (hs : s.size ≤ maxLen) :
    Calls Tryd.prog 34 #[.string s] w fun e w' => e = .returned (.bool (!fitsD s)) ∧ w' = w := by
  have hmm : maxLen < 9223372036854775808 := by decide
  have HF : Hid ((!fitsD s) = decide ((64 : Int) < (s.size : Int))) := by
    show _ = _
    rw [fitsD, ← decide_not, decide_eq_decide]
    omega
  go_enter Tryd.func34, Tryd.ntmps34
  go_wp2_with fail
  go_ret
  exact ⟨ret_bD HF.out.symm, rfl⟩

end Go.Proofs.YtenkpgnkkkgdmauDoor

namespace Go.Proofs.YtenkpgnkkkgdmauDoor
open Go.RowKit
set_option linter.unusedVariables false

/-- Whether one of the texts is too long. -/
def anyL (xs : List ByteArray) : Bool := !xs.all fitsD

theorem anyL_false {xs : List ByteArray} (h : ∀ (k : Nat) (x : ByteArray), xs[k]? = some x → fitsD x = true) : anyL xs = false := by
  have : xs.all fitsD = true := by
    rw [List.all_eq_true]
    intro f hf
    obtain ⟨k, hk, rfl⟩ := List.mem_iff_getElem.1 hf
    exact h k _ (List.getElem?_eq_getElem hk)
  rw [anyL, this]
  rfl

theorem anyL_true {xs : List ByteArray} {k : Nat} {x : ByteArray} (h : xs[k]? = some x) (hw : fitsD x = false) : anyL xs = true := by
  have : xs.all fitsD = false := by
    rw [List.all_eq_false]
    exact ⟨x, List.mem_of_getElem? h, by simp [hw]⟩
  rw [anyL, this]
  rfl

set_option maxRecDepth 10000 in
set_option maxHeartbeats 800000 in
theorem implIdxL_any (a : Option Addr) (len cap : Nat) (xs : List ByteArray) (w : World) (hx : Strs w a len xs) (hl : len ≤ 1099511627776) :
    Calls Tryd.prog 50 #[.slice a len cap, .func (.func 34) #[] #[]] w fun e w' => (∃ k : Int, e = .returned (.int .i64 k) ∧ decide (0 ≤ k) = anyL xs) ∧ Below w.heap.size w w' := by
  have HX : Hid (Strs w a len xs) := hx
  have HL : Hid (xs.length = len) := hx.1
  clear hx
  go_enter Tryd.func50, Tryd.ntmps50
  go_wp2_with fail
  go_loopw [8] (fun v wr => ∃ k : Nat, k ≤ len ∧ v = .int .i64 k ∧ Hid (Below w.heap.size w wr) ∧ Hid (∀ (j : Nat) (x : ByteArray), j < k → xs[j]? = some x → fitsD x = true)) (fun v _ => len - (intOf v).toNat)
  case atStart => exact ⟨0, Nat.zero_le _, rfl, Below.refl _ _, fun j _ hj => absurd hj (Nat.not_lt_zero _)⟩
  case round =>
    obtain ⟨k, hk, rfl, HB, HN⟩ := hrel
    by_cases hlt : k < len
    · have hki : (k : Int) < (len : Int) := by omega
      obtain ⟨b, off, x, rfl, hb, hkx, hp⟩ := (HX.out.below HB.out).at hlt
      have hxm := HX.out.2.1 x (List.mem_of_getElem? hkx)
      have HK : Hid (xs[k]? = some x) := hkx
      have HO : Hid (∀ W : World, Calls Tryd.prog 34 #[.string x] W fun e w' => e = .returned (.bool (!fitsD x)) ∧ w' = W) := fun W => implLong_any x W hxm
      clear hkx hxm
      go_wp2_with fail
      refine (HO.out _).mono ?_
      rintro e w1 ⟨rfl, rfl⟩
      cases hpr : fitsD x
      case false =>
        have HE : Hid (anyL xs = true) := anyL_true HK.out hpr
        clear hpr
        go_wp2_with fail
        go_ret
        exact ⟨⟨k, rfl, by rw [HE.out]; simp⟩, HB.out⟩
      case true =>
        have HN2 : Hid (∀ (j : Nat) (x : ByteArray), j < k + 1 → xs[j]? = some x → fitsD x = true) := fun j u hj hju => by
          by_cases e : j = k
          · subst e
            rw [HK.out] at hju
            injection hju with e1
            rw [← e1]
            exact hpr
          · exact HN.out j u (by omega) hju
        clear hpr HN
        go_wp2_with fail
        go_roundw
        case rel => exact ⟨k + 1, by omega, by go_num, HB, HN2⟩
        case measure => simp [intOf]; omega
    · have HE : Hid (anyL xs = false) := anyL_false fun j x hjx => HN.out j x (by have := (List.getElem?_eq_some_iff.1 hjx).1; have := HL.out; omega) hjx
      have hkl : len = k := by omega
      clear HN HX HL
      subst hkl
      go_wp2_with fail
      go_ret
      exact ⟨⟨-1, rfl, by rw [HE.out]; rfl⟩, HB.out⟩

set_option maxRecDepth 10000 in
theorem implAnyL_any (a : Option Addr) (len cap : Nat) (xs : List ByteArray) (w : World) (hx : Strs w a len xs) (hl : len ≤ 1099511627776) :
    Calls Tryd.prog 33 #[.slice a len cap, .func (.func 34) #[] #[]] w fun e w' => e = .returned (.bool (anyL xs)) ∧ Below w.heap.size w w' := by
  go_enter Tryd.func33, Tryd.ntmps33
  go_wp2_with fail
  refine (implIdxL_any a len cap xs w hx hl).mono ?_
  rintro e w1 ⟨⟨k, rfl, hk⟩, hb1⟩
  have HK : Hid (decide (0 ≤ k) = anyL xs) := hk
  have HB1 : Hid (Below w.heap.size w w1) := hb1
  clear hk hb1 hx
  go_wp2_with fail
  go_ret
  exact ⟨ret_bD HK.out, HB1.out⟩

end Go.Proofs.YtenkpgnkkkgdmauDoor

namespace Go.Proofs.YtenkpgnkkkgdmauDoor
open Go.RowKit
set_option linter.unusedVariables false

set_option maxRecDepth 10000 in
set_option maxHeartbeats 1600000 in
theorem implDok_any (a : Option Addr) (n ca : Nat) (xs : List ByteArray) (a' : Option Addr) (n' ca' : Nat) (ys : List ByteArray) (w : World) (h1 : Strs w a n xs) (h3 : Strs w a' n' ys) (hn : n ≤ 1099511627776) (hn' : n' ≤ 1099511627776) :
    Calls Tryd.prog 20 #[.agg #[.slice a n ca, .slice a' n' ca']] w fun e w' => e = .returned (.bool (okD xs ys)) ∧ Below w.heap.size w w' := by
  have HX : Hid (∀ W, Below w.heap.size w W → Strs W a n xs ∧ Strs W a' n' ys) := fun W h => ⟨h1.below h, h3.below h⟩
  have HL : Hid (xs.length = n ∧ ys.length = n') := ⟨h1.1, h3.1⟩
  clear h1 h3
  have HA : Hid (Box2R (w.alloc (Obj.cells #[Value.slice a n ca, Value.slice a' n' ca'] 26)) w.heap.size 26 (.slice a n ca) (.slice a' n' ca')) := Box2R.new _ _ _ _
  have HB : Hid (Below w.heap.size w (w.alloc (Obj.cells #[Value.slice a n ca, Value.slice a' n' ca'] 26))) := (Below.refl _ _).alloc (Nat.le_refl _) _
  by_cases hne : n = n'
  case neg =>
    have HF : Hid (okD xs ys = false) := okD_len (fun h => hne (by rw [← HL.out.1, ← HL.out.2]; exact h.1))
    have e1 : ((n : Int) != (n' : Int)) = true := by simp; omega
    go_enter Tryd.func20, Tryd.ntmps20
    go_wp2_with fail
    go_ret
    exact ⟨by rw [HF.out]; rfl, HB.out⟩
  subst hne
  have e1 : ((n : Int) != (n : Int)) = false := by simp
  by_cases hbig : 200 < n
  · have HF : Hid (okD xs ys = false) := okD_len (fun h => by have := HL.out; omega)
    go_enter Tryd.func20, Tryd.ntmps20
    go_wp2_with fail
    go_ret
    exact ⟨by rw [HF.out]; rfl, HB.out⟩
  have HO : Hid (okD xs ys = (!anyL xs && !anyL ys)) := by
    show _ = _
    rw [okD, anyL, anyL, decide_eq_true (show xs.length = ys.length ∧ xs.length ≤ 200 by have := HL.out; omega), Bool.true_and, Bool.not_not, Bool.not_not]
  go_enter Tryd.func20, Tryd.ntmps20
  go_wp2_with fail
  obtain ⟨w0, hw0⟩ : ∃ w0, w.alloc (Obj.cells #[Value.slice a n ca, Value.slice a' n ca'] 26) = w0 := ⟨_, rfl⟩
  rw [hw0] at HA HB ⊢
  clear hw0
  refine (implAnyL_any a n ca xs _ (HX.out _ HB.out).1 hn).mono ?_
  rintro e w1 ⟨rfl, hb1⟩
  have HB1 : Hid (Below w.heap.size w w1) := HB.out.trans (hb1.mono HB.out.size)
  obtain ⟨c0, c1⟩ := (HA.out.stays hb1).cells
  clear hb1 HB HA
  cases hA : anyL xs
  · have HF : Hid (okD xs ys = !anyL ys) := by show _ = _; rw [HO.out, hA]; rfl
    clear hA HO
    go_wp2_with fail
    refine (implAnyL_any a' n ca' ys _ (HX.out _ HB1.out).2 hn).mono ?_
    rintro e w2 ⟨rfl, hb2⟩
    have HB2 : Hid (Below w.heap.size w w2) := HB1.out.trans (hb2.mono HB1.out.size)
    clear hb2
    go_wp2_with fail
    go_ret
    exact ⟨ret_bD HF.out.symm, HB2.out⟩
  · have HF : Hid (okD xs ys = false) := by show _ = _; rw [HO.out, hA]; rfl
    clear hA HO
    go_wp2_with fail
    go_ret
    exact ⟨ret_bD HF.out.symm, HB1.out⟩

end Go.Proofs.YtenkpgnkkkgdmauDoor
