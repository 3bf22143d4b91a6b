/- What the program's reqFormOk answers: whether the names are those of a request. -/
import Derived.Test.YthojijhafhnclaeDoorHeadIs
import Derived.Test.YthojijhafhnclaeDoorReqBehI
import Derived.Test.YthojijhafhnclaeDoorReqValI
namespace Go.Proofs.YthojijhafhnclaeDoor
open Go.RowKit
set_option linter.unusedVariables false

theorem formB_no {xs : List Fld} (h : ¬ ((∀ (k : Nat) (x y : ByteArray), xs[k]? = some (x, y) → wrongN x.toList = false) ∧ ¬ behP xs ∧ cntF bM xs = 1 ∧ cntF bS xs = 1 ∧ cntF bP xs = 1 ∧ cntF bA xs ≤ 1)) : formB xs = false := by
  cases hf : formB xs
  · rfl
  · exact absurd ((form_iff xs).1 hf) h

/-- The three names by number. -/
def nm3 (k : Nat) : List UInt8 := if k = 0 then bM else if k = 1 then bS else bP

set_option maxRecDepth 10000 in
set_option maxHeartbeats 1600000 in
theorem implForm_any (a : Option Addr) (len cap : Nat) (xs : List Fld) (w : World) (hx : Flds w a len xs) (hl : len ≤ 1099511627776) :
    Calls Tryd.prog 19 #[.slice a len cap] w fun e w' => e = .returned (.bool (formB xs)) ∧ Below w.heap.size w w' := by
  have HX : Hid (Flds w a len xs) := hx
  have HL : Hid (xs.length = len) := hx.1
  have HT : Hid ((⟨#[58, 109, 101, 116, 104, 111, 100]⟩ : ByteArray).toList = bM ∧ (⟨#[58, 115, 99, 104, 101, 109, 101]⟩ : ByteArray).toList = bS ∧ (⟨#[58, 112, 97, 116, 104]⟩ : ByteArray).toList = bP ∧ (⟨#[58, 97, 117, 116, 104, 111, 114, 105, 116, 121]⟩ : ByteArray).toList = bA) := by
    refine ⟨?_, ?_, ?_, ?_⟩ <;> (rw [bytes_list]; rfl)
  clear hx
  go_enter Tryd.func19, Tryd.ntmps19
  go_wp2_with fail
  refine (implAnyW_any a len cap xs w HX.out hl).mono ?_
  rintro e w1 ⟨rfl, hb1⟩
  have HB1 : Hid (Below w.heap.size w w1) := hb1
  clear hb1
  cases hany : anyW xs
  case true =>
    have HF : Hid (formB xs = false) := formB_no fun h => by rw [anyW_false h.1] at hany; cases hany
    clear hany
    go_wp2_with fail
    go_ret
    exact ⟨ret_b HF.out.symm, HB1.out⟩
  have HNo : Hid (∀ (k : Nat) (x y : ByteArray), xs[k]? = some (x, y) → wrongN x.toList = false) := anyW_none hany
  clear hany
  go_wp2_with fail
  refine (implBeh_any a len cap xs w1 (HX.out.below HB1.out) hl).mono ?_
  rintro e w2 ⟨rfl, hb2⟩
  have HB2 : Hid (Below w.heap.size w w2) := HB1.out.trans (hb2.mono HB1.out.size)
  clear hb2 HB1
  cases hbe : behB xs
  case true =>
    have HF : Hid (formB xs = false) := formB_no fun h => by rw [behB_false h.2.1] at hbe; cases hbe
    clear hbe
    go_wp2_with fail
    go_ret
    exact ⟨ret_b HF.out.symm, HB2.out⟩
  have HNb : Hid (¬ behP xs) := fun h => by rw [behB_true h] at hbe; cases hbe
  clear hbe
  have HR : Hid ((w2.alloc (.cells #[.string ⟨#[58, 109, 101, 116, 104, 111, 100]⟩, .string ⟨#[58, 115, 99, 104, 101, 109, 101]⟩, .string ⟨#[58, 112, 97, 116, 104]⟩] 9)).heap[w2.heap.size]? = some (.cells #[.string ⟨#[58, 109, 101, 116, 104, 111, 100]⟩, .string ⟨#[58, 115, 99, 104, 101, 109, 101]⟩, .string ⟨#[58, 112, 97, 116, 104]⟩] 9 (0, 0))) := heap_alloc_new w2 _
  have HB3 : Hid (Below w.heap.size w (w2.alloc (.cells #[.string ⟨#[58, 109, 101, 116, 104, 111, 100]⟩, .string ⟨#[58, 115, 99, 104, 101, 109, 101]⟩, .string ⟨#[58, 112, 97, 116, 104]⟩] 9))) := HB2.out.alloc HB2.out.size _
  go_wp2_with fail
  obtain ⟨w3, hw3⟩ : ∃ w3, w2.alloc (.cells #[.string ⟨#[58, 109, 101, 116, 104, 111, 100]⟩, .string ⟨#[58, 115, 99, 104, 101, 109, 101]⟩, .string ⟨#[58, 112, 97, 116, 104]⟩] 9) = w3 := ⟨_, rfl⟩
  rw [hw3] at HR HB3 ⊢
  clear hw3 HB2
  generalize w2.heap.size = g at *
  have hg : g < w3.heap.size := (Array.getElem?_eq_some_iff.1 HR.out).1
  go_loopw [15] (fun v wr => ∃ k : Nat, k ≤ 3 ∧ v = .int .i64 (k : Int) ∧ Hid (Below w3.heap.size w3 wr) ∧ Hid (∀ j, j < k → cntF (nm3 j) xs = 1)) (fun v _ => 3 - (intOf v).toNat)
  case atStart => exact ⟨0, Nat.zero_le _, rfl, Below.refl _ _, fun j hj => absurd hj (Nat.not_lt_zero _)⟩
  case round =>
    obtain ⟨k, hk, rfl, HBw, HN⟩ := hrel
    have HBr : Hid (Below w.heap.size w wr) := HB3.out.trans (HBw.out.mono HB3.out.size)
    by_cases hlt : k < 3
    · have hrow : wr.heap[g]? = some (.cells #[.string ⟨#[58, 109, 101, 116, 104, 111, 100]⟩, .string ⟨#[58, 115, 99, 104, 101, 109, 101]⟩, .string ⟨#[58, 112, 97, 116, 104]⟩] 9 (0, 0)) := (HBw.out.block _ hg).trans HR.out
      obtain ⟨nm, hc, hnm⟩ : ∃ nm : ByteArray, wr.cell? ⟨g, k, none⟩ = some (.string nm) ∧ nm.toList = nm3 k := by
        have hk3 : k = 0 ∨ k = 1 ∨ k = 2 := by omega
        rw [cell_of_row _ _ _ _ _ _ hrow]
        rcases hk3 with rfl | rfl | rfl
        · exact ⟨_, rfl, HT.out.1⟩
        · exact ⟨_, rfl, HT.out.2.1⟩
        · exact ⟨_, rfl, HT.out.2.2.1⟩
      have HM : Hid (nm.toList = nm3 k) := hnm
      have hki : (k : Int) < 3 := by omega
      clear hnm hrow
      go_wp2_with fail
      refine (implOnly_any a len cap xs nm wr (HX.out.below HBr.out) hl).mono ?_
      rintro e w4 ⟨rfl, hb4⟩
      have HB4 : Hid (Below w3.heap.size w3 w4) := HBw.out.trans (hb4.mono HBw.out.size)
      have HB5 : Hid (Below w.heap.size w w4) := HBr.out.trans (hb4.mono HBr.out.size)
      clear hb4
      rw [HM.out]
      by_cases h1 : cntF (nm3 k) xs = 1
      · have HO : Hid (onlyR (nm3 k) xs = (valF (nm3 k) xs, true)) := by show _ = _; rw [onlyR, if_pos h1]
        have HN2 : Hid (∀ j, j < k + 1 → cntF (nm3 j) xs = 1) := fun j hj => by
          by_cases e : j = k
          · rw [e]; exact h1
          · exact HN.out j (by omega)
        rw [HO.out]
        clear HN HO h1 HM
        go_wp2_with fail
        go_roundw
        case rel => exact ⟨k + 1, by omega, by go_num, HB4, HN2⟩
        case measure => simp [intOf]; omega
      · have HO : Hid (onlyR (nm3 k) xs = (⟨#[]⟩, false)) := by show _ = _; rw [onlyR, if_neg h1]
        have HF : Hid (formB xs = false) := formB_no fun h => h1 (by
          unfold nm3
          split
          · exact h.2.2.1
          · split
            · exact h.2.2.2.1
            · exact h.2.2.2.2.1)
        rw [HO.out]
        clear HN HO h1 HM
        go_wp2_with fail
        go_ret
        exact ⟨ret_b HF.out.symm, HB5.out⟩
    · have hk3 : k = 3 := by omega
      subst hk3
      have HA : Hid (formB xs = decide ((cntF bA xs : Int) ≤ 1)) := by
        show _ = _
        have h0 : cntF bM xs = 1 := HN.out 0 (by omega)
        have h1 : cntF bS xs = 1 := HN.out 1 (by omega)
        have h2 : cntF bP xs = 1 := HN.out 2 (by omega)
        rw [Bool.eq_iff_iff, decide_eq_true_eq, form_iff]
        constructor
        · intro h
          have := h.2.2.2.2.2
          omega
        · intro h
          exact ⟨HNo.out, HNb.out, h0, h1, h2, by omega⟩
      have HC : Hid (cntF bA xs ≤ len) := by have := cntF_le bA xs; rw [HL.out] at this; exact this
      clear HN HNo HNb
      go_wp2_with fail
      refine (implVals_any a len cap xs _ wr (HX.out.below HBr.out) hl).mono ?_
      rintro e w4 ⟨A, C, rfl, _, hb4⟩
      have HB5 : Hid (Below w.heap.size w w4) := HBr.out.trans (hb4.mono HBr.out.size)
      clear hb4
      rw [HT.out.2.2.2]
      have hc := HC.out
      generalize cntF bA xs = c at *
      go_wp2_with fail
      go_ret
      exact ⟨ret_b HA.out.symm, HB5.out⟩

end Go.Proofs.YthojijhafhnclaeDoor
