/- What the specification's DiskOk answers. What the test of a range answers. -/
import Derived.Test.YtenkpgnkkkgdmauGreatDoorM04
import Derived.Test.YtenkpgnkkkgdmauGreatDoorM04
import Derived.Test.YtenkpgnkkkgdmauGreatDoorM17
import Derived.Test.YtenkpgnkkkgdmauGreatDoorM01
namespace Go.Proofs.YtenkpgnkkkgdmauGreatDoor
open Go.RowKit
set_option linter.unusedVariables false

set_option maxRecDepth 10000 in
set_option maxHeartbeats 1600000 in
theorem specDok_any (a : Option Addr) (n ca : Nat) (xs : List ByteArray) (a' : Option Addr) (n' ca' : Nat) (ys : List ByteArray) (w : World) (h1 : Strs w a n xs) (h3 : Strs w a' n' ys) (hn : n ≤ 1099511627776) (hn' : n' ≤ 1099511627776) :
    Calls Tryz.prog 46 #[.agg #[.slice a n ca, .slice a' n' ca']] w fun e w' => e = .returned (.bool (okD xs ys)) ∧ Below w.heap.size w w' := by
  have HX : Hid (∀ W, Below w.heap.size w W → Strs W a n xs ∧ Strs W a' n' ys) := fun W h => ⟨h1.below h, h3.below h⟩
  have HL : Hid (xs.length = n ∧ ys.length = n') := ⟨h1.1, h3.1⟩
  have HM : Hid ((∀ x ∈ xs, x.size ≤ maxLen) ∧ (∀ x ∈ ys, x.size ≤ maxLen)) := ⟨h1.2.1, h3.2.1⟩
  clear h1 h3
  have HA : Hid (Box2R (w.alloc (Obj.cells #[Value.slice a n ca, Value.slice a' n' ca'] 29)) w.heap.size 29 (.slice a n ca) (.slice a' n' ca')) := Box2R.new _ _ _ _
  have HB : Hid (Below w.heap.size w (w.alloc (Obj.cells #[Value.slice a n ca, Value.slice a' n' ca'] 29))) := (Below.refl _ _).alloc (Nat.le_refl _) _
  by_cases hne : n = n'
  case neg =>
    have HF : Hid (okD xs ys = false) := okD_len (fun h => hne (by rw [← HL.out.1, ← HL.out.2]; exact h.1))
    have e1 : ((n : Int) != (n' : Int)) = true := by simp; omega
    go_enter Tryz.func46, Tryz.ntmps46
    go_wp2_with fail
    go_ret
    exact ⟨by rw [HF.out]; rfl, HB.out⟩
  subst hne
  have e1 : ((n : Int) != (n : Int)) = false := by simp
  by_cases hbig : 200 < n
  · have HF : Hid (okD xs ys = false) := okD_len (fun h => by have := HL.out; omega)
    go_enter Tryz.func46, Tryz.ntmps46
    go_wp2_with fail
    go_ret
    exact ⟨by rw [HF.out]; rfl, HB.out⟩
  go_enter Tryz.func46, Tryz.ntmps46
  go_wp2_with fail
  obtain ⟨w0, hw0⟩ : ∃ w0, w.alloc (Obj.cells #[Value.slice a n ca, Value.slice a' n ca'] 29) = w0 := ⟨_, rfl⟩
  rw [hw0] at HA HB ⊢
  clear hw0
  go_loopw [3] (fun i wr => ∃ k : Nat, k ≤ n ∧ i = .int .i64 (k : Int) ∧ Hid (Below w0.heap.size w0 wr) ∧ Hid (∀ (i : Nat) (x y : ByteArray), i < k → xs[i]? = some x → ys[i]? = some y → x.size ≤ 64 ∧ y.size ≤ 64)) (fun i _ => n - (intOf i).toNat)
  case atStart => exact ⟨0, Nat.zero_le _, rfl, Below.refl _ _, fun i x y h => by omega⟩
  case round =>
    obtain ⟨k, hk, rfl, HW, HG⟩ := hrel
    obtain ⟨c0, c1⟩ := (HA.out.stays HW.out).cells
    by_cases hlt : k < n
    · have hb := HB.out.trans (HW.out.mono HB.out.size)
      obtain ⟨p, po, x, rfl, _, hkx, hp⟩ := (HX.out _ hb).1.at hlt
      obtain ⟨q, qo, y, rfl, _, hky, hq⟩ := (HX.out _ hb).2.at hlt
      have HK : Hid (xs[k]? = some x ∧ ys[k]? = some y) := ⟨hkx, hky⟩
      have hxm : x.size ≤ maxLen := HM.out.1 x (List.mem_of_getElem? hkx)
      have hym : y.size ≤ maxLen := HM.out.2 y (List.mem_of_getElem? hky)
      have hmm : maxLen < 9223372036854775808 := by decide
      clear hkx hky hb
      have hki : (k : Int) < (n : Int) := by omega
      have hk0 : (0 : Int) ≤ (k : Int) := by omega
      by_cases hx : 64 < x.size
      · have HF : Hid (okD xs ys = false) := okD_bad HK.out.1 HK.out.2 (.inl hx)
        go_wp2_with fail
        go_ret
        exact ⟨by rw [HF.out]; rfl, HB.out.trans (HW.out.mono HB.out.size)⟩
      by_cases hy : 64 < y.size
      · have HF : Hid (okD xs ys = false) := okD_bad HK.out.1 HK.out.2 (.inr hy)
        go_wp2_with fail
        go_ret
        exact ⟨by rw [HF.out]; rfl, HB.out.trans (HW.out.mono HB.out.size)⟩
      have HG2 : Hid (∀ (i : Nat) (x y : ByteArray), i < k + 1 → xs[i]? = some x → ys[i]? = some y → x.size ≤ 64 ∧ y.size ≤ 64) := by
        intro i x' y' hi h1 h2
        by_cases hik : i = k
        · subst hik
          rw [HK.out.1] at h1
          rw [HK.out.2] at h2
          injection h1 with h1
          injection h2 with h2
          subst h1 h2
          exact ⟨by omega, by omega⟩
        · exact HG.out i x' y' (by omega) h1 h2
      clear HG
      go_wp2_with fail
      go_roundw
      case rel => exact ⟨k + 1, by omega, by go_num, HW, HG2⟩
      case measure => simp [intOf]; omega
    · have HF : Hid (okD xs ys = true) := okD_good (by have := HL.out; omega) (by have := HL.out; omega) (fun i x y h1 h2 => HG.out i x y (by have := HL.out; have := (List.getElem?_eq_some_iff.1 h1).1; omega) h1 h2)
      clear HG
      go_wp2_with fail
      go_ret
      exact ⟨by rw [HF.out]; rfl, HB.out.trans (HW.out.mono HB.out.size)⟩

end Go.Proofs.YtenkpgnkkkgdmauGreatDoor

namespace Go.Proofs.YtenkpgnkkkgdmauGreatDoor
open Go.RowKit
set_option linter.unusedVariables false

set_option maxHeartbeats 400000 in
theorem l1In_yes (x lo hi : Int) (w : World) (h1 : lo ≤ x) (h2 : x ≤ hi) : Calls Tryz.prog 47 #[.int .i64 x, .int .i64 lo, .int .i64 hi] w fun e w' => e = .returned (.bool true) ∧ w' = w := by
  go_enter Tryz.func47, Tryz.ntmps47
  go_wp2
  go_ret
  exact ⟨rfl, rfl⟩

set_option maxHeartbeats 400000 in
theorem l1In_no (x lo hi : Int) (w : World) (h : x < lo ∨ hi < x) : Calls Tryz.prog 47 #[.int .i64 x, .int .i64 lo, .int .i64 hi] w fun e w' => e = .returned (.bool false) ∧ w' = w := by
  by_cases h1 : x < lo
  · clear h
    go_enter Tryz.func47, Tryz.ntmps47
    go_wp2
    go_ret
    exact ⟨rfl, rfl⟩
  · have h2 : hi < x := by omega
    clear h
    go_enter Tryz.func47, Tryz.ntmps47
    go_wp2
    go_ret
    exact ⟨ret_bool (by simp; omega), rfl⟩

theorem l1In_any (x lo hi : Int) (w : World) : Calls Tryz.prog 47 #[.int .i64 x, .int .i64 lo, .int .i64 hi] w fun e w' => e = .returned (.bool (decide (lo ≤ x ∧ x ≤ hi))) ∧ w' = w := by
  by_cases h : lo ≤ x ∧ x ≤ hi
  · rw [decide_eq_true h]
    exact l1In_yes x lo hi w h.1 h.2
  · rw [decide_eq_false h]
    exact l1In_no x lo hi w (by omega)

end Go.Proofs.YtenkpgnkkkgdmauGreatDoor
