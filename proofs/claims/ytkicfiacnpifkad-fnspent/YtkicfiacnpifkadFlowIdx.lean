/- What the library's IndexFunc answers of lanes. -/
import Derived.Test.YtkicfiacnpifkadFlowNum
namespace Go.Proofs.Ytkicfiacnpifkad
open Go.RowKit
set_option linter.unusedVariables false

/-- Where the first lane lies of which this holds; -1: nowhere. -/
def idxL (pr : Int → Int → Bool) : List Lane → Int
  | [] => -1
  | x :: r => if pr x.1 x.2 then 0 else if idxL pr r < 0 then -1 else idxL pr r + 1

theorem idxL_none {pr : Int → Int → Bool} : ∀ {l : List Lane}, (∀ k, k < l.length → pr (laneAt l k).1 (laneAt l k).2 = false) → idxL pr l = -1
  | [], _ => rfl
  | x :: r, h => by
    have h0 : pr x.1 x.2 = false := by simpa [laneAt] using h 0 (by simp)
    have h1 : idxL pr r = -1 := idxL_none fun k hk => by simpa [laneAt] using h (k + 1) (by simpa using hk)
    rw [idxL, h0, h1]
    rfl

theorem idxL_some {pr : Int → Int → Bool} : ∀ {l : List Lane} {k : Nat}, k < l.length → pr (laneAt l k).1 (laneAt l k).2 = true → (∀ j, j < k → pr (laneAt l j).1 (laneAt l j).2 = false) → idxL pr l = k
  | [], k, hk, _, _ => by simp at hk
  | x :: r, 0, _, h, _ => by
    have h0 : pr x.1 x.2 = true := by simpa [laneAt] using h
    rw [idxL, h0]
    rfl
  | x :: r, k + 1, hk, h, hn => by
    have h0 : pr x.1 x.2 = false := by simpa [laneAt] using hn 0 (by omega)
    have h1 : idxL pr r = k := idxL_some (by simpa using hk) (by simpa [laneAt] using h) fun j hj => by simpa [laneAt] using hn (j + 1) (by omega)
    rw [idxL, h0, h1, if_neg (by simp), if_neg (by omega)]
    simp

set_option maxRecDepth 10000 in
set_option maxHeartbeats 800000 in
theorem implIdx_any (a : Option Addr) (len cap : Nat) (l : List Lane) (g : Nat) (cb : Array Value) (pr : Int → Int → Bool) (w : World) (eg : ∀ (args : Array Value) (w : World), Sem.run Try.prog (callFunc g args) w = .ok (.enter g args) w) (hs : Lanes w a len l) (hl : len ≤ 1099511627776)
    (hp : ∀ p q W, Below w.heap.size w W → Calls Try.prog g (#[.agg #[.int .i64 p, .int .i64 q]] ++ cb) W fun e w' => e = .returned (.bool (pr p q)) ∧ Below W.heap.size W w') :
    Calls Try.prog 53 #[.slice a len cap, .func (.func g) #[] cb] w fun e w' => e = .returned (.int .i64 (idxL pr l)) ∧ Below w.heap.size w w' := by
  have HL : Hid (l.length = len) := hs.1
  have HS : Hid (Lanes w a len l) := hs
  have HP : Hid (∀ p q W, Below w.heap.size w W → Calls Try.prog g (#[.agg #[.int .i64 p, .int .i64 q]] ++ cb) W fun e w' => e = .returned (.bool (pr p q)) ∧ Below W.heap.size W w') := hp
  clear hs hp
  go_enter Try.func53, Try.ntmps53
  go_wp2_with fail
  go_loopw [8] (fun v wr => ∃ k : Nat, k ≤ len ∧ v = .int .i64 k ∧ Hid (Below w.heap.size w wr) ∧ Hid (∀ j, j < k → pr (laneAt l j).1 (laneAt l j).2 = false)) (fun v _ => len - (intOf v).toNat)
  case atStart => exact ⟨0, Nat.zero_le _, rfl, Below.refl _ _, fun j hj => absurd hj (Nat.not_lt_zero _)⟩
  case round =>
    obtain ⟨k, hk, rfl, HB, HN⟩ := hrel
    by_cases hlt : k < len
    · have hki : (k : Int) < (len : Int) := by omega
      obtain ⟨b, off, p, q, rfl, hb, hkx, hp, hq, _, _⟩ := (HS.out.below HB.out).at hlt
      have HA : Hid (laneAt l k = (p, q)) := laneAt_some hkx
      clear hkx
      cases hpr : pr p q
      case true =>
        have HE : Hid (idxL pr l = k) := idxL_some (by have := HL.out; omega) (by rw [HA.out]; exact hpr) HN.out
        go_wp2_with fail
        refine (HP.out p q _ HB.out).mono ?_
        rintro e w1 ⟨rfl, hb1⟩
        have HB1 : Hid (Below w.heap.size w w1) := HB.out.trans (hb1.mono HB.out.size)
        clear hb1
        rw [hpr]
        go_wp2_with fail
        go_ret
        exact ⟨ret_int HE.out.symm, HB1.out⟩
      case false =>
        have HN2 : Hid (∀ j, j < k + 1 → pr (laneAt l j).1 (laneAt l j).2 = false) := fun j hj => by
          by_cases e : j = k
          · rw [e, HA.out]; exact hpr
          · exact HN.out j (by omega)
        go_wp2_with fail
        refine (HP.out p q _ HB.out).mono ?_
        rintro e w1 ⟨rfl, hb1⟩
        have HB1 : Hid (Below w.heap.size w w1) := HB.out.trans (hb1.mono HB.out.size)
        clear hb1
        rw [hpr]
        go_wp2_with fail
        go_roundw
        case rel => exact ⟨k + 1, by omega, by go_num, HB1, HN2⟩
        case measure => simp [intOf]; omega
    · have HE : Hid (idxL pr l = -1) := idxL_none fun j hj => HN.out j (by have := HL.out; omega)
      have hkl : len = k := by omega
      clear HN HS HL HP
      subst hkl
      go_wp2_with fail
      go_ret
      exact ⟨ret_int HE.out.symm, HB.out⟩

end Go.Proofs.Ytkicfiacnpifkad
