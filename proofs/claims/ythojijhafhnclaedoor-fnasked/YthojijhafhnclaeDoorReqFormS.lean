/- What the specification's l11Form answers: whether fields are in order, and the first three there. -/
import Derived.Test.YthojijhafhnclaeDoorFormNs
import Derived.Test.YthojijhafhnclaeDoorReqCntS
import Derived.Test.YthojijhafhnclaeDoorL1In
namespace Go.Proofs.YthojijhafhnclaeDoor
open Go.RowKit
set_option linter.unusedVariables false

set_option maxRecDepth 10000 in
set_option maxHeartbeats 3200000 in
theorem specForm_any (a : Option Addr) (len cap : Nat) (xs : List Fld) (w : World) (hx : Flds w a len xs) (hl : len ≤ 1099511627776) (hcap : len ≤ cap) :
    Calls Tryd.prog 31 #[.slice a len cap] w fun e w' => e = .returned (.bool (formB xs)) ∧ w' = w := by
  have HX : Hid (Flds w a len xs) := hx
  have HL : Hid (xs.length = len) := hx.1
  clear hx
  go_enter Tryd.func31, Tryd.ntmps31
  go_wp2_with fail
  go_loop [3, 4] (fun p i => ∃ (k : Nat) (pl : Bool), k ≤ len ∧ i = .int .i64 k ∧ p = .bool pl ∧ Hid (pl = plainF (xs.take k)) ∧ Hid (∀ (j : Nat) (x y : ByteArray), j < k → xs[j]? = some (x, y) → okN (xs.take j) x.toList = true)) (fun _ i => len - (intOf i).toNat)
  case atStart => exact ⟨0, false, Nat.zero_le _, rfl, rfl, rfl, fun j _ _ hj => absurd hj (Nat.not_lt_zero _)⟩
  case round =>
    obtain ⟨k, pl, hk, rfl, rfl, HP, HN⟩ := hrel
    by_cases hlt : k < len
    case neg =>
      have HE : Hid (formB xs = (cntF bM xs == 1 && cntF bS xs == 1 && cntF bP xs == 1)) := formB_good fun j x y hjx => HN.out j x y (by have := (List.getElem?_eq_some_iff.1 hjx).1; have := HL.out; omega) hjx
      have hkl : len = k := by omega
      clear HN HP
      subst hkl
      have HT : Hid ((⟨#[58, 109, 101, 116, 104, 111, 100]⟩ : ByteArray).toList = bM ∧ (⟨#[58, 115, 99, 104, 101, 109, 101]⟩ : ByteArray).toList = bS ∧ (⟨#[58, 112, 97, 116, 104]⟩ : ByteArray).toList = bP) := by
        refine ⟨?_, ?_, ?_⟩ <;> (rw [bytes_list]; rfl)
      go_wp2_with fail
      refine (specCount_any a len cap xs _ _ HX.out hl).mono ?_
      rintro e w1 ⟨rfl, hw1⟩
      subst hw1
      rw [HT.out.1]
      generalize cntF bM xs = m1 at *
      by_cases e1 : m1 = 1
      case neg =>
        have f1 : ((m1 : Int) == 1) = false := by simp; omega
        have g1 : (m1 == 1) = false := by simpa using e1
        rw [g1] at HE
        go_wp2_with fail
        go_ret
        exact ⟨ret_bool (by rw [HE.out]; rfl), rfl⟩
      subst e1
      go_wp2_with fail
      refine (specCount_any a len cap xs _ _ HX.out hl).mono ?_
      rintro e w1 ⟨rfl, hw1⟩
      subst hw1
      rw [HT.out.2.1]
      generalize cntF bS xs = m2 at *
      by_cases e2 : m2 = 1
      case neg =>
        have f1 : ((m2 : Int) == 1) = false := by simp; omega
        have g1 : (m2 == 1) = false := by simpa using e2
        rw [g1] at HE
        go_wp2_with fail
        go_ret
        exact ⟨ret_bool (by rw [HE.out]; rfl), rfl⟩
      subst e2
      go_wp2_with fail
      refine (specCount_any a len cap xs _ _ HX.out hl).mono ?_
      rintro e w1 ⟨rfl, hw1⟩
      subst hw1
      rw [HT.out.2.2]
      generalize cntF bP xs = m3 at *
      have HE2 : Hid (formB xs = ((m3 : Int) == 1)) := by
        show _ = _
        rw [HE.out]
        by_cases e3 : m3 = 1
        · subst e3; rfl
        · have g1 : (m3 == 1) = false := by simpa using e3
          have g2 : ((m3 : Int) == 1) = false := by simp; omega
          rw [g1, g2]
          rfl
      go_wp2_with fail
      go_ret
      exact ⟨ret_bool HE2.out.symm, rfl⟩
    have hki : (k : Int) < (len : Int) := by omega
    obtain ⟨b, off, x, y, rfl, hb, hkx, hp, hq⟩ := HX.out.at hlt
    have HK : Hid (xs[k]? = some (x, y)) := hkx
    have HXm : Hid (x.size ≤ maxLen) := (HX.out.2.1 (x, y) (List.mem_of_getElem? hkx)).1
    have HBad : Hid (okN (xs.take k) x.toList = false → formB xs = false) := formB_bad hkx
    have HPn : Hid (plainF (xs.take (k + 1)) = (pl || !colB x.toList)) := by show _ = _; rw [plainF_next hkx, ← HP.out]
    have HOk : Hid (okN (xs.take k) x.toList = true → ∀ (j : Nat) (x' y' : ByteArray), j < k + 1 → xs[j]? = some (x', y') → okN (xs.take j) x'.toList = true) := fun h j x' y' hj hjx => by
      by_cases e : j = k
      · subst e
        rw [HK.out] at hjx
        injection hjx with hjx
        injection hjx with e1 e2
        rw [← e1]
        exact h
      · exact HN.out j x' y' (by omega) hjx
    clear hkx HN
    by_cases h0 : x.size = 0
    · have HF : Hid (formB xs = false) := HBad.out (by rw [okN, list_empty h0]; rfl)
      have he : (x.toList == []) = true := by rw [list_empty h0]; rfl
      clear HBad HOk HPn
      go_wp2_with fail
      go_ret
      exact ⟨ret_bool HF.out.symm, rfl⟩
    have hx0 : 0 < x.size := by omega
    have he : (x.toList == []) = false := by
      have := list_some hx0
      cases hh : x.toList with
      | nil => rw [hh] at this; cases this
      | cons c r => rfl
    have HIe : Hid (x.toList.isEmpty = false) := list_some hx0
    have hxm : x.size ≤ 9223372036854775807 := by have := HXm.out; unfold maxLen at this; omega
    go_wp2_with fail
    go_loop [6] (fun v => ∃ q : Nat, q ≤ x.size ∧ v = .int .i64 q ∧ Hid (∀ j (hj : j < x.size), j < q → upC x[j] = false)) (fun v => x.size - (intOf v).toNat)
    case atStart => exact ⟨0, Nat.zero_le _, rfl, fun j _ hj => absurd hj (Nat.not_lt_zero _)⟩
    case round =>
      obtain ⟨q, hq2, rfl, HU⟩ := hrel
      by_cases hqx : q < x.size
      · have hqi : (q : Int) < (x.size : Int) := by omega
        have hc0 : (0 : Int) ≤ (x[q].toNat : Int) := by omega
        have hc1 : (x[q].toNat : Int) ≤ 255 := by have := x[q].toNat_lt; omega
        by_cases hu : 65 ≤ x[q].toNat ∧ x[q].toNat ≤ 90
        · have HF : Hid (formB xs = false) := HBad.out (by
            have hall : x.toList.all (fun b => !upC b) = false := by
              rw [List.all_eq_false]
              exact ⟨x[q], mem_list hqx, by simp [upC, hu.1, hu.2]⟩
            rw [okN, hall, Bool.and_false, Bool.false_and])
          have HI : Hid (∀ W : World, Calls Tryd.prog 51 #[.int .i64 (x[q].toNat : Int), .int .i64 65, .int .i64 90] W fun e w' => e = .returned (.bool true) ∧ w' = W) := fun W => l1In_yes _ _ _ W (by omega) (by omega)
          clear hu HBad HOk HPn HU
          go_wp2_with (go_at_call 51; refine (HI.out _).mono ?_; rintro e w' ⟨rfl, rfl⟩)
          go_ret
          exact ⟨ret_bool HF.out.symm, rfl⟩
        · have HU2 : Hid (∀ j (hj : j < x.size), j < q + 1 → upC x[j] = false) := fun j hj hjq => by
            by_cases e : j = q
            · subst e
              rw [upC, Bool.and_eq_false_iff]
              simp only [decide_eq_false_iff_not]
              omega
            · exact HU.out j hj (by omega)
          have HI : Hid (∀ W : World, Calls Tryd.prog 51 #[.int .i64 (x[q].toNat : Int), .int .i64 65, .int .i64 90] W fun e w' => e = .returned (.bool false) ∧ w' = W) := fun W => l1In_no _ _ _ W (by omega)
          clear hu HU
          go_wp2_with (go_at_call 51; refine (HI.out _).mono ?_; rintro e w' ⟨rfl, rfl⟩)
          go_round
          case rel => exact ⟨q + 1, by omega, by go_num, HU2⟩
          case measure => simp [intOf]; omega
      · have HAll : Hid (x.toList.all (fun b => !upC b) = true) := by
          show _ = _
          rw [List.all_eq_true]
          intro c hc
          obtain ⟨j, hj, rfl⟩ := list_mem hc
          rw [HU.out j hj (by omega)]
          rfl
        have HN2 : Hid (okN (xs.take k) x.toList = (!colB x.toList || (!pl && fourB x.toList && cntF x.toList (xs.take k) == 0))) := by
          show _ = _
          rw [okN, HIe.out, HAll.out, HP.out]
          rfl
        have hqe : x.size = q := by omega
        clear HU HAll HIe
        have HCo : Hid (colB x.toList = (x[0] == 58)) := by show _ = _; rw [colB, list_head hx0]; rfl
        have hc0 : (0 : Int) ≤ (x[0].toNat : Int) := by omega
        have hc1 : (x[0].toNat : Int) ≤ 255 := by have := x[0].toNat_lt; omega
        by_cases hcol : x[0].toNat = 58
        case neg =>
          have hcb : (((x[0].toNat : Int)) != 58) = true := by simp; omega
          have hcf : (((x[0].toNat : Int)) == 58) = false := by simp; omega
          have hcc : colB x.toList = false := by rw [HCo.out, beq_eq_false_iff_ne]; intro e; exact hcol (by rw [e]; rfl)
          have HT : Hid (∀ (j : Nat) (x' y' : ByteArray), j < k + 1 → xs[j]? = some (x', y') → okN (xs.take j) x'.toList = true) := HOk.out (by rw [HN2.out, hcc]; rfl)
          have HP2 : Hid (true = plainF (xs.take (k + 1))) := by show _ = _; rw [HPn.out, hcc]; simp
          clear hcc HBad HOk HPn HN2 HCo
          go_wp2_with fail
          go_round
          case rel => exact ⟨k + 1, true, by omega, by go_num, rfl, HP2, HT⟩
          case measure => simp [intOf]; omega
        have hcb : (((x[0].toNat : Int)) != 58) = false := by simp; omega
        have hcf : (((x[0].toNat : Int)) == 58) = true := by simp; omega
        have hcc : colB x.toList = true := by rw [HCo.out, beq_iff_eq]; exact UInt8.toNat_inj.1 hcol
        rw [hcc] at HPn HN2
        have HN3 : Hid (okN (xs.take k) x.toList = (!pl && fourB x.toList && cntF x.toList (xs.take k) == 0)) := by show _ = _; rw [HN2.out]; rfl
        have HP3 : Hid (pl = plainF (xs.take (k + 1))) := by show _ = _; rw [HPn.out]; simp
        clear hcc HN2 HPn HCo hcol
        cases pl
        case true =>
          have HF : Hid (formB xs = false) := HBad.out (by rw [HN3.out]; rfl)
          clear HBad HOk HN3
          go_wp2_with fail
          go_ret
          exact ⟨ret_bool HF.out.symm, rfl⟩
        have HCt : Hid (∀ W, W = w → Calls Tryd.prog 38 #[.slice (some ⟨b, off, none⟩) k cap, .string x] W fun e w' => e = .returned (.int .i64 (cntF x.toList (xs.take k) : Nat)) ∧ w' = W) := fun W hW => by subst hW; exact specCount_any _ k cap (xs.take k) x W (HX.out.take hk) (by omega)
        obtain ⟨cn, hcn⟩ : ∃ cn, cntF x.toList (xs.take k) = cn := ⟨_, rfl⟩
        rw [hcn] at HN3 HCt
        clear hcn
        have hkc : k ≤ cap := by omega
        have hkci : (k : Int) ≤ (cap : Int) := by omega
        have HEnd : Hid (fourB x.toList = true → (cn = 0 → okN (xs.take k) x.toList = true) ∧ (¬ cn = 0 → formB xs = false)) := fun h => ⟨fun h2 => by rw [HN3.out, h, h2]; rfl, fun h2 => HBad.out (by rw [HN3.out, beq_eq_false_iff_ne.2 h2, Bool.and_false])⟩
        have HNo : Hid (fourB x.toList = false → formB xs = false) := fun h => HBad.out (by rw [HN3.out, h]; rfl)
        have HFo : Hid (fourB x.toList = ((x.toList == bM) || (x.toList == bS) || (x.toList == bP) || (x.toList == bA))) := rfl
        clear HBad HN3
        by_cases hcn0 : cn = 0
        case pos =>
          subst hcn0
          by_cases hbM : (x.toList == [58, 109, 101, 116, 104, 111, 100]) = true
          · have HFt : Hid (fourB x.toList = true) := by show _ = _; rw [HFo.out, show (x.toList == bM) = true from hbM]; simp
            have HT : Hid (∀ (j : Nat) (x' y' : ByteArray), j < k + 1 → xs[j]? = some (x', y') → okN (xs.take j) x'.toList = true) := HOk.out ((HEnd.out HFt.out).1 rfl)
            clear HOk HEnd HNo HFo HFt
            go_wp2_with (go_at_call 38; refine (HCt.out _ rfl).mono ?_; rintro e w' ⟨rfl, rfl⟩)
            go_round
            case rel => exact ⟨k + 1, false, by omega, by go_num, rfl, HP3, HT⟩
            case measure => simp [intOf]; omega
          have ebM : (x.toList == [58, 109, 101, 116, 104, 111, 100]) = false := by simpa using hbM
          clear hbM
          by_cases hbS : (x.toList == [58, 115, 99, 104, 101, 109, 101]) = true
          · have HFt : Hid (fourB x.toList = true) := by show _ = _; rw [HFo.out, show (x.toList == bS) = true from hbS]; simp
            have HT : Hid (∀ (j : Nat) (x' y' : ByteArray), j < k + 1 → xs[j]? = some (x', y') → okN (xs.take j) x'.toList = true) := HOk.out ((HEnd.out HFt.out).1 rfl)
            clear HOk HEnd HNo HFo HFt
            go_wp2_with (go_at_call 38; refine (HCt.out _ rfl).mono ?_; rintro e w' ⟨rfl, rfl⟩)
            go_round
            case rel => exact ⟨k + 1, false, by omega, by go_num, rfl, HP3, HT⟩
            case measure => simp [intOf]; omega
          have ebS : (x.toList == [58, 115, 99, 104, 101, 109, 101]) = false := by simpa using hbS
          clear hbS
          by_cases hbP : (x.toList == [58, 112, 97, 116, 104]) = true
          · have HFt : Hid (fourB x.toList = true) := by show _ = _; rw [HFo.out, show (x.toList == bP) = true from hbP]; simp
            have HT : Hid (∀ (j : Nat) (x' y' : ByteArray), j < k + 1 → xs[j]? = some (x', y') → okN (xs.take j) x'.toList = true) := HOk.out ((HEnd.out HFt.out).1 rfl)
            clear HOk HEnd HNo HFo HFt
            go_wp2_with (go_at_call 38; refine (HCt.out _ rfl).mono ?_; rintro e w' ⟨rfl, rfl⟩)
            go_round
            case rel => exact ⟨k + 1, false, by omega, by go_num, rfl, HP3, HT⟩
            case measure => simp [intOf]; omega
          have ebP : (x.toList == [58, 112, 97, 116, 104]) = false := by simpa using hbP
          clear hbP
          by_cases hbA : (x.toList == [58, 97, 117, 116, 104, 111, 114, 105, 116, 121]) = true
          · have HFt : Hid (fourB x.toList = true) := by show _ = _; rw [HFo.out, show (x.toList == bA) = true from hbA]; simp
            have HT : Hid (∀ (j : Nat) (x' y' : ByteArray), j < k + 1 → xs[j]? = some (x', y') → okN (xs.take j) x'.toList = true) := HOk.out ((HEnd.out HFt.out).1 rfl)
            clear HOk HEnd HNo HFo HFt
            go_wp2_with (go_at_call 38; refine (HCt.out _ rfl).mono ?_; rintro e w' ⟨rfl, rfl⟩)
            go_round
            case rel => exact ⟨k + 1, false, by omega, by go_num, rfl, HP3, HT⟩
            case measure => simp [intOf]; omega
          have ebA : (x.toList == [58, 97, 117, 116, 104, 111, 114, 105, 116, 121]) = false := by simpa using hbA
          clear hbA
          have HFn : Hid (fourB x.toList = false) := by show _ = _; rw [HFo.out]; unfold bM bS bP bA; rw [ebM, ebS, ebP, ebA]; rfl
          have HF : Hid (formB xs = false) := HNo.out HFn.out
          clear HOk HEnd HNo HFo HFn
          go_wp2_with fail
          go_ret
          exact ⟨ret_bool HF.out.symm, rfl⟩
        case neg =>
          have hcp : (0 : Int) < (cn : Int) := by omega
          by_cases hbM : (x.toList == [58, 109, 101, 116, 104, 111, 100]) = true
          · have HFt : Hid (fourB x.toList = true) := by show _ = _; rw [HFo.out, show (x.toList == bM) = true from hbM]; simp
            have HF : Hid (formB xs = false) := (HEnd.out HFt.out).2 hcn0
            clear HOk HEnd HNo HFo HFt
            go_wp2_with (go_at_call 38; refine (HCt.out _ rfl).mono ?_; rintro e w' ⟨rfl, rfl⟩)
            go_ret
            exact ⟨ret_bool HF.out.symm, rfl⟩
          have ebM : (x.toList == [58, 109, 101, 116, 104, 111, 100]) = false := by simpa using hbM
          clear hbM
          by_cases hbS : (x.toList == [58, 115, 99, 104, 101, 109, 101]) = true
          · have HFt : Hid (fourB x.toList = true) := by show _ = _; rw [HFo.out, show (x.toList == bS) = true from hbS]; simp
            have HF : Hid (formB xs = false) := (HEnd.out HFt.out).2 hcn0
            clear HOk HEnd HNo HFo HFt
            go_wp2_with (go_at_call 38; refine (HCt.out _ rfl).mono ?_; rintro e w' ⟨rfl, rfl⟩)
            go_ret
            exact ⟨ret_bool HF.out.symm, rfl⟩
          have ebS : (x.toList == [58, 115, 99, 104, 101, 109, 101]) = false := by simpa using hbS
          clear hbS
          by_cases hbP : (x.toList == [58, 112, 97, 116, 104]) = true
          · have HFt : Hid (fourB x.toList = true) := by show _ = _; rw [HFo.out, show (x.toList == bP) = true from hbP]; simp
            have HF : Hid (formB xs = false) := (HEnd.out HFt.out).2 hcn0
            clear HOk HEnd HNo HFo HFt
            go_wp2_with (go_at_call 38; refine (HCt.out _ rfl).mono ?_; rintro e w' ⟨rfl, rfl⟩)
            go_ret
            exact ⟨ret_bool HF.out.symm, rfl⟩
          have ebP : (x.toList == [58, 112, 97, 116, 104]) = false := by simpa using hbP
          clear hbP
          by_cases hbA : (x.toList == [58, 97, 117, 116, 104, 111, 114, 105, 116, 121]) = true
          · have HFt : Hid (fourB x.toList = true) := by show _ = _; rw [HFo.out, show (x.toList == bA) = true from hbA]; simp
            have HF : Hid (formB xs = false) := (HEnd.out HFt.out).2 hcn0
            clear HOk HEnd HNo HFo HFt
            go_wp2_with (go_at_call 38; refine (HCt.out _ rfl).mono ?_; rintro e w' ⟨rfl, rfl⟩)
            go_ret
            exact ⟨ret_bool HF.out.symm, rfl⟩
          have ebA : (x.toList == [58, 97, 117, 116, 104, 111, 114, 105, 116, 121]) = false := by simpa using hbA
          clear hbA
          have HFn : Hid (fourB x.toList = false) := by show _ = _; rw [HFo.out]; unfold bM bS bP bA; rw [ebM, ebS, ebP, ebA]; rfl
          have HF : Hid (formB xs = false) := HNo.out HFn.out
          clear HOk HEnd HNo HFo HFn
          go_wp2_with fail
          go_ret
          exact ⟨ret_bool HF.out.symm, rfl⟩

end Go.Proofs.YthojijhafhnclaeDoor
