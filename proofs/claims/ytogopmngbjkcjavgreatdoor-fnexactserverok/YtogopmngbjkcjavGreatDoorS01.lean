/- What the program's ServerOk asks of the answers that wait. What the specification's ServerOk answers. What the program's ServerOk answers. A server of the laws: how great it is. A sector of a store in memory is put; its variable's cells are written. No statement of the program but its table of types. -/
import Derived.Test.YtogopmngbjkcjavGreatDoorM30
import Derived.Test.YtogopmngbjkcjavGreatDoorM06
import Derived.Test.YtogopmngbjkcjavGreatDoorM31
import Derived.Test.YtogopmngbjkcjavGreatDoorM32
import Derived.Test.YtogopmngbjkcjavGreatDoorM27
import Derived.Test.YtogopmngbjkcjavGreatDoorM32
import Derived.Test.YtogopmngbjkcjavGreatDoorM20
import Derived.Test.YtogopmngbjkcjavGreatDoorM29
namespace Go.Proofs.YtogopmngbjkcjavGreatDoor
open Go.RowKit
set_option linter.unusedVariables false

/-- Whether an answer is right. -/
def fitsH (h : Hd) : Bool := respB h.2.1 h.2.2

theorem ret_bH {b c : Bool} (h : b = c) : (Ending.returned (.bool b)) = .returned (.bool c) := by rw [h]

set_option maxRecDepth 10000 in
set_option maxHeartbeats 800000 in
theorem implHeldW_any (x0 x1 x2 : Int) (w : World) :
    Calls Tryz.prog 38 #[.agg #[.int .i64 x0, .int .i64 x1, .int .i64 x2]] w fun e w' => e = .returned (.bool (!fitsH (x0, x1, x2))) ∧ Below w.heap.size w w' := by
  have HB : Hid (Below w.heap.size w (w.alloc (.cells #[.int .i64 x0, .int .i64 x1, .int .i64 x2] 72))) := (Below.refl _ _).alloc (Nat.le_refl _) _
  have HC : Hid (∀ W : World, Calls Tryz.prog 72 #[.agg #[.int .i64 x1, .int .i64 x2]] W fun e w' => e = .returned (.bool (fitsH (x0, x1, x2))) ∧ Below W.heap.size W w') := fun W => implRespOk_any x1 x2 W
  obtain ⟨r, hr⟩ : ∃ r, fitsH (x0, x1, x2) = r := ⟨_, rfl⟩
  rw [hr] at HC ⊢
  clear hr
  go_enter Tryz.func38, Tryz.ntmps38
  go_wp2_with fail
  refine (HC.out _).mono ?_
  rintro e w1 ⟨rfl, hb1⟩
  have HB1 : Hid (Below w.heap.size w w1) := HB.out.trans (hb1.mono HB.out.size)
  clear hb1 HB HC
  go_wp2_with fail
  go_ret
  exact ⟨rfl, HB1.out⟩

/-- Whether one of the answers is wrong. -/
def anyH (xs : List Hd) : Bool := !xs.all fitsH

theorem anyH_false {xs : List Hd} (h : ∀ (k : Nat) (x : Hd), xs[k]? = some x → fitsH x = true) : anyH xs = false := by
  have : xs.all fitsH = true := by
    rw [List.all_eq_true]
    intro f hf
    obtain ⟨k, hk, rfl⟩ := List.mem_iff_getElem.1 hf
    exact h k _ (List.getElem?_eq_getElem hk)
  rw [anyH, this]
  rfl

theorem anyH_true {xs : List Hd} {k : Nat} {x : Hd} (h : xs[k]? = some x) (hw : fitsH x = false) : anyH xs = true := by
  have : xs.all fitsH = false := by
    rw [List.all_eq_false]
    exact ⟨x, List.mem_of_getElem? h, by simp [hw]⟩
  rw [anyH, this]
  rfl

set_option maxRecDepth 10000 in
set_option maxHeartbeats 800000 in
theorem implIdxH_any (a : Option Addr) (len cap : Nat) (xs : List Hd) (w : World) (hx : Helds w a len xs) (hl : len ≤ 1099511627776) :
    Calls Tryz.prog 71 #[.slice a len cap, .func (.func 38) #[] #[]] w fun e w' => (∃ k : Int, e = .returned (.int .i64 k) ∧ decide (0 ≤ k) = anyH xs) ∧ Below w.heap.size w w' := by
  have HX : Hid (Helds w a len xs) := hx
  have HL : Hid (xs.length = len) := hx.1
  clear hx
  go_enter Tryz.func71, Tryz.ntmps71
  go_wp2_with fail
  go_loopw [8] (fun v wr => ∃ k : Nat, k ≤ len ∧ v = .int .i64 k ∧ Hid (Below w.heap.size w wr) ∧ Hid (∀ (j : Nat) (x : Hd), j < k → xs[j]? = some x → fitsH x = true)) (fun v _ => len - (intOf v).toNat)
  case atStart => exact ⟨0, Nat.zero_le _, rfl, Below.refl _ _, fun j _ hj => absurd hj (Nat.not_lt_zero _)⟩
  case round =>
    obtain ⟨k, hk, rfl, HB, HN⟩ := hrel
    by_cases hlt : k < len
    · have hki : (k : Int) < (len : Int) := by omega
      obtain ⟨b, off, x0, x1, x2, rfl, hb, hkx, p0, p1, p2, _⟩ := (HX.out.below HB.out).at hlt
      have HK : Hid (xs[k]? = some (x0, x1, x2)) := hkx
      have HO : Hid (∀ W : World, Calls Tryz.prog 38 #[.agg #[.int .i64 x0, .int .i64 x1, .int .i64 x2]] W fun e w' => e = .returned (.bool (!fitsH (x0, x1, x2))) ∧ Below W.heap.size W w') := fun W => implHeldW_any x0 x1 x2 W
      clear hkx
      go_wp2_with fail
      refine (HO.out _).mono ?_
      rintro e w1 ⟨rfl, hb1⟩
      have HB1 : Hid (Below w.heap.size w w1) := HB.out.trans (hb1.mono HB.out.size)
      clear hb1 p0 p1 p2 HB
      cases hpr : fitsH (x0, x1, x2)
      case false =>
        have HE : Hid (anyH xs = true) := anyH_true HK.out hpr
        clear hpr
        go_wp2_with fail
        go_ret
        exact ⟨⟨k, rfl, by rw [HE.out]; simp⟩, HB1.out⟩
      case true =>
        have HN2 : Hid (∀ (j : Nat) (x : Hd), j < k + 1 → xs[j]? = some x → fitsH x = true) := fun j u hj hju => by
          by_cases e : j = k
          · subst e
            rw [HK.out] at hju
            injection hju with e1
            rw [← e1]
            exact hpr
          · exact HN.out j u (by omega) hju
        clear hpr HN
        go_wp2_with fail
        go_roundw
        case rel => exact ⟨k + 1, by omega, by go_num, HB1, HN2⟩
        case measure => simp [intOf]; omega
    · have HE : Hid (anyH xs = false) := anyH_false fun j x hjx => HN.out j x (by have := (List.getElem?_eq_some_iff.1 hjx).1; have := HL.out; omega) hjx
      have hkl : len = k := by omega
      clear HN HX HL
      subst hkl
      go_wp2_with fail
      go_ret
      exact ⟨⟨-1, rfl, by rw [HE.out]; rfl⟩, HB.out⟩

set_option maxRecDepth 10000 in
theorem implAnyHd_any (a : Option Addr) (len cap : Nat) (xs : List Hd) (w : World) (hx : Helds w a len xs) (hl : len ≤ 1099511627776) :
    Calls Tryz.prog 37 #[.slice a len cap, .func (.func 38) #[] #[]] w fun e w' => e = .returned (.bool (anyH xs)) ∧ Below w.heap.size w w' := by
  go_enter Tryz.func37, Tryz.ntmps37
  go_wp2_with fail
  refine (implIdxH_any a len cap xs w hx hl).mono ?_
  rintro e w1 ⟨⟨k, rfl, hk⟩, hb1⟩
  have HK : Hid (decide (0 ≤ k) = anyH xs) := hk
  have HB1 : Hid (Below w.heap.size w w1) := hb1
  clear hk hb1 hx
  go_wp2_with fail
  go_ret
  exact ⟨ret_bH HK.out, HB1.out⟩

end Go.Proofs.YtogopmngbjkcjavGreatDoor

namespace Go.Proofs.YtogopmngbjkcjavGreatDoor
open Go.RowKit
set_option linter.unusedVariables false

/-- Whether a server is right. -/
noncomputable def svB (X Y : List ByteArray) (ep nx : Int) (us : List U) (hs : List Hd) : Bool := !anyH hs && (decide ((hs.length : Int) ≤ 200) && decB (SOk X Y ep nx us))

theorem svB_any {X Y : List ByteArray} {ep nx : Int} {us : List U} {hs : List Hd} (h : anyH hs = true) : svB X Y ep nx us hs = false := by rw [svB, h]; rfl
theorem svB_many {X Y : List ByteArray} {ep nx : Int} {us : List U} {hs : List Hd} (h : ¬ (hs.length : Int) ≤ 200) : svB X Y ep nx us hs = false := by rw [svB, decide_eq_false h]; simp
theorem svB_sto {X Y : List ByteArray} {ep nx : Int} {us : List U} {hs : List Hd} (h : anyH hs = false) (h2 : (hs.length : Int) ≤ 200) : svB X Y ep nx us hs = decB (SOk X Y ep nx us) := by rw [svB, h, decide_eq_true h2]; rfl

set_option maxRecDepth 10000 in
set_option maxHeartbeats 3200000 in
theorem specSvok_any (a : Option Addr) (n ca : Nat) (X : List ByteArray) (a' : Option Addr) (n' ca' : Nat) (Y : List ByteArray) (ep nx : Int) (ua : Option Addr) (un uc lo : Nat) (l : List UE) (ha : Option Addr) (hn hc : Nat) (hs : List Hd) (w : World) (h1 : Strs w a n X) (h2 : Strs w a' n' Y) (hln : n ≤ 1048576) (hln' : n' ≤ 1048576) (hz : ∀ x ∈ X, x.size ≤ 1048576) (hu : UpRow w lo (.slice ua un uc) l) (hun : un = l.length) (hul : un ≤ 1048576) (hh : Helds w ha hn hs) (hhl : hn ≤ 1099511627776) :
    Calls Tryz.prog 8 #[.agg #[.slice a n ca, .slice a' n' ca', .int .i64 ep, .int .i64 nx, .slice ua un uc, .slice ha hn hc]] w fun e w' => e = .returned (.bool (svB X Y ep nx (l.map UE.u) hs)) ∧ Below w.heap.size w w' := by
  obtain ⟨w0, hw0⟩ : ∃ w0, w.alloc (.cells #[.slice a n ca, .slice a' n' ca', .int .i64 ep, .int .i64 nx, .slice ua un uc, .slice ha hn hc] 39) = w0 := ⟨_, rfl⟩
  have HE : Hid (w.alloc (.cells #[.slice a n ca, .slice a' n' ca', .int .i64 ep, .int .i64 nx, .slice ua un uc, .slice ha hn hc] 39) = w0) := hw0
  have hB : Below w.heap.size w w0 := by rw [← hw0]; exact (Below.refl _ _).alloc (Nat.le_refl _) _
  have hQ : BoxN w0 w.heap.size 39 [.slice a n ca, .slice a' n' ca', .int .i64 ep, .int .i64 nx, .slice ua un uc, .slice ha hn hc] := by rw [← hw0]; exact BoxN.new _ _ _
  have HX : Hid (∀ W, Below w0.heap.size w0 W → BoxN W w.heap.size 39 [.slice a n ca, .slice a' n' ca', .int .i64 ep, .int .i64 nx, .slice ua un uc, .slice ha hn hc] ∧ Strs W a n X ∧ Strs W a' n' Y ∧ UpRow W lo (.slice ua un uc) l ∧ Below w.heap.size w W ∧ Helds W ha hn hs) := fun W hb => by
    have hw : Below w.heap.size w W := hB.trans (hb.mono hB.size)
    exact ⟨hQ.stays hb, h1.below hw, h2.below hw, hu.stays hw, hw, hh.below hw⟩
  have HL : Hid (un = l.length ∧ (∀ x ∈ X, x.size ≤ 1048576) ∧ hs.length = hn) := ⟨hun, hz, hh.1⟩
  have HA0 : Hid (Below w0.heap.size w0 w0) := Below.refl _ _
  clear hw0 h1 h2 hu hun hz hB hQ hh
  go_enter Tryz.func8, Tryz.ntmps8
  go_upto_region 1 with fail
  rw [HE.out]
  clear HE
  go_wp2_with fail
  go_loopw [3] (fun v wr => ∃ k : Nat, k ≤ hn ∧ v = .int .i64 (k : Int) ∧ Hid (Below w0.heap.size w0 wr) ∧ Hid (∀ (j : Nat) (x : Hd), j < k → hs[j]? = some x → fitsH x = true)) (fun v _ => hn - (intOf v).toNat)
  case atStart => exact ⟨0, Nat.zero_le _, rfl, HA0, fun j _ hj => absurd hj (Nat.not_lt_zero _)⟩
  case round =>
    clear HA0
    obtain ⟨k, hk, rfl, HW, HN⟩ := hrel
    have c5 := BoxN.cell (HX.out _ HW.out).1 5 rfl
    by_cases hlt : k < hn
    · have hki : (k : Int) < (hn : Int) := by omega
      have hk0 : (0 : Int) ≤ (k : Int) := by omega
      obtain ⟨b, off, x0, x1, x2, rfl, hb, hkx, p0, p1, p2, _⟩ := (HX.out _ HW.out).2.2.2.2.2.at hlt
      have HK : Hid (hs[k]? = some (x0, x1, x2)) := hkx
      have HC : Hid (∀ W : World, Calls Tryz.prog 33 #[.agg #[.int .i64 x1, .int .i64 x2]] W fun e w' => e = .returned (.bool (fitsH (x0, x1, x2))) ∧ Below W.heap.size W w') := fun W => specRespOk_any x1 x2 W
      clear hkx
      go_wp2_with fail
      refine (HC.out _).mono ?_
      rintro e w1 ⟨rfl, hb1⟩
      have HW1 : Hid (Below w0.heap.size w0 w1) := HW.out.trans (hb1.mono HW.out.size)
      clear hb1 p0 p1 p2 HC HW c5
      cases hpr : fitsH (x0, x1, x2)
      case false =>
        have HF : Hid (svB X Y ep nx (l.map UE.u) hs = false) := svB_any (anyH_true HK.out hpr)
        have HBw : Hid (Below w.heap.size w w1) := (HX.out _ HW1.out).2.2.2.2.1
        clear hpr HX HW1 HK HN
        go_wp2_with fail
        go_ret
        exact ⟨by rw [HF.out]; rfl, HBw.out⟩
      case true =>
        have HN2 : Hid (∀ (j : Nat) (x : Hd), j < k + 1 → hs[j]? = some x → fitsH x = true) := fun j u hj hju => by
          by_cases e : j = k
          · subst e
            rw [HK.out] at hju
            injection hju with e1
            rw [← e1]
            exact hpr
          · exact HN.out j u (by omega) hju
        clear hpr HN HK
        go_wp2_with fail
        go_roundw
        case rel => exact ⟨k + 1, by omega, by go_num, HW1, HN2⟩
        case measure => simp [intOf]; omega
    · have hki : ¬ (k : Int) < (hn : Int) := by omega
      have HA : Hid (anyH hs = false) := anyH_false fun j x hjx => HN.out j x (by have := (List.getElem?_eq_some_iff.1 hjx).1; have := HL.out.2.2; omega) hjx
      obtain ⟨c0, c1, c2, c3, c4⟩ := (show _ ∧ _ ∧ _ ∧ _ ∧ _ from ⟨BoxN.cell (HX.out _ HW.out).1 0 rfl, BoxN.cell (HX.out _ HW.out).1 1 rfl, BoxN.cell (HX.out _ HW.out).1 2 rfl, BoxN.cell (HX.out _ HW.out).1 3 rfl, BoxN.cell (HX.out _ HW.out).1 4 rfl⟩)
      clear HN
      by_cases h200 : (hn : Int) ≤ 200
      case neg =>
        have hd : decide ((hn : Int) ≤ 200) = false := by simpa using h200
        have HF : Hid (svB X Y ep nx (l.map UE.u) hs = false) := svB_many (by rw [HL.out.2.2]; exact h200)
        have HBw : Hid (Below w.heap.size w wr) := (HX.out _ HW.out).2.2.2.2.1
        clear HX HW HA h200
        go_wp2_with fail
        go_ret
        exact ⟨by rw [HF.out]; rfl, HBw.out⟩
      have hd : decide ((hn : Int) ≤ 200) = true := by simpa using h200
      have HF : Hid (svB X Y ep nx (l.map UE.u) hs = decB (SOk X Y ep nx (l.map UE.u))) := svB_sto HA.out (by rw [HL.out.2.2]; exact h200)
      clear HA h200
      go_wp2_with fail
      refine (specSok_any a n ca X a' n' ca' Y ep nx ua un uc lo l wr (HX.out _ HW.out).2.1 (HX.out _ HW.out).2.2.1 hln hln' HL.out.2.1 (HX.out _ HW.out).2.2.2.1 HL.out.1 hul).mono ?_
      rintro e w2 ⟨⟨ok, rfl, hok⟩, hb2⟩
      have HD : Hid (svB X Y ep nx (l.map UE.u) hs = ok) := HF.out.trans (decB_iff hok).symm
      have HBw : Hid (Below w.heap.size w w2) := (HX.out _ (HW.out.trans (hb2.mono HW.out.size))).2.2.2.2.1
      clear hb2 hok HF HX HW c0 c1 c2 c3 c4 c5
      go_wp2_with fail
      go_ret
      exact ⟨by rw [HD.out]; rfl, HBw.out⟩

end Go.Proofs.YtogopmngbjkcjavGreatDoor

namespace Go.Proofs.YtogopmngbjkcjavGreatDoor
open Go.RowKit
set_option linter.unusedVariables false

set_option maxRecDepth 10000 in
set_option maxHeartbeats 3200000 in
theorem implSvok_any (a : Option Addr) (n ca : Nat) (X : List ByteArray) (a' : Option Addr) (n' ca' : Nat) (Y : List ByteArray) (ep nx : Int) (ua : Option Addr) (un uc lo : Nat) (l : List UE) (ha : Option Addr) (hn hc : Nat) (hs : List Hd) (w : World) (h1 : Strs w a n X) (h2 : Strs w a' n' Y) (hln : n ≤ 1048576) (hln' : n' ≤ 1048576) (hz : ∀ x ∈ X, x.size ≤ 1048576) (hu : UpRow w lo (.slice ua un uc) l) (hun : un = l.length) (hul : un ≤ 1048576) (hh : Helds w ha hn hs) (hhl : hn ≤ 1099511627776) (hsl : SlOk a n ca) (ht : RecT w) (he : ErrN w) :
    Calls Tryz.prog 10 #[.agg #[.slice a n ca, .slice a' n' ca', .int .i64 ep, .int .i64 nx, .slice ua un uc, .slice ha hn hc]] w fun e w' => e = .returned (.bool (svB X Y ep nx (l.map UE.u) hs)) ∧ Below w.heap.size w w' := by
  obtain ⟨w0, hw0⟩ : ∃ w0, w.alloc (.cells #[.slice a n ca, .slice a' n' ca', .int .i64 ep, .int .i64 nx, .slice ua un uc, .slice ha hn hc] 39) = w0 := ⟨_, rfl⟩
  have HE : Hid (w.alloc (.cells #[.slice a n ca, .slice a' n' ca', .int .i64 ep, .int .i64 nx, .slice ua un uc, .slice ha hn hc] 39) = w0) := hw0
  have hB : Below w.heap.size w w0 := by rw [← hw0]; exact (Below.refl _ _).alloc (Nat.le_refl _) _
  have hQ : BoxN w0 w.heap.size 39 [.slice a n ca, .slice a' n' ca', .int .i64 ep, .int .i64 nx, .slice ua un uc, .slice ha hn hc] := by rw [← hw0]; exact BoxN.new _ _ _
  have HX : Hid (∀ W, Below w0.heap.size w0 W → BoxN W w.heap.size 39 [.slice a n ca, .slice a' n' ca', .int .i64 ep, .int .i64 nx, .slice ua un uc, .slice ha hn hc] ∧ Strs W a n X ∧ Strs W a' n' Y ∧ UpRow W lo (.slice ua un uc) l ∧ Below w.heap.size w W ∧ Helds W ha hn hs ∧ RecT W ∧ ErrN W) := fun W hb => by
    have hw : Below w.heap.size w W := hB.trans (hb.mono hB.size)
    exact ⟨hQ.stays hb, h1.below hw, h2.below hw, hu.stays hw, hw, hh.below hw, ht.below hw, he.below hw⟩
  have HL : Hid (un = l.length ∧ (∀ x ∈ X, x.size ≤ 1048576) ∧ hs.length = hn) := ⟨hun, hz, hh.1⟩
  have HA0 : Hid (Below w0.heap.size w0 w0) := Below.refl _ _
  clear hw0 h1 h2 hu hun hz hB hQ hh ht he
  have c5 := BoxN.cell (HX.out _ HA0.out).1 5 rfl
  go_enter Tryz.func10, Tryz.ntmps10
  go_upto_region 1 with fail
  rw [HE.out]
  clear HE
  by_cases h200 : (hn : Int) ≤ 200
  case neg =>
    have hd : decide ((hn : Int) ≤ 200) = false := by simpa using h200
    have HF : Hid (svB X Y ep nx (l.map UE.u) hs = false) := svB_many (by rw [HL.out.2.2]; exact h200)
    have HBw : Hid (Below w.heap.size w w0) := (HX.out _ HA0.out).2.2.2.2.1
    clear HX HA0 h200
    go_wp2_with fail
    go_ret
    exact ⟨by rw [HF.out]; rfl, HBw.out⟩
  have hd : decide ((hn : Int) ≤ 200) = true := by simpa using h200
  have H200 : Hid ((hs.length : Int) ≤ 200) := by show _ ≤ _; rw [HL.out.2.2]; exact h200
  clear h200
  go_wp2_with fail
  refine (implAnyHd_any ha hn hc hs w0 (HX.out _ HA0.out).2.2.2.2.2.1 hhl).mono ?_
  rintro e w1 ⟨rfl, hb1⟩
  have HB1 : Hid (Below w0.heap.size w0 w1) := hb1
  obtain ⟨c0, c1, c2, c3, c4⟩ := (show _ ∧ _ ∧ _ ∧ _ ∧ _ from ⟨BoxN.cell (HX.out _ HB1.out).1 0 rfl, BoxN.cell (HX.out _ HB1.out).1 1 rfl, BoxN.cell (HX.out _ HB1.out).1 2 rfl, BoxN.cell (HX.out _ HB1.out).1 3 rfl, BoxN.cell (HX.out _ HB1.out).1 4 rfl⟩)
  clear hb1 c5
  cases hany : anyH hs
  case true =>
    have HF : Hid (svB X Y ep nx (l.map UE.u) hs = false) := svB_any hany
    have HBw : Hid (Below w.heap.size w w1) := (HX.out _ HB1.out).2.2.2.2.1
    clear HX HA0 HB1 hany H200
    go_wp2_with fail
    go_ret
    exact ⟨by rw [HF.out]; rfl, HBw.out⟩
  have HF : Hid (svB X Y ep nx (l.map UE.u) hs = decB (SOk X Y ep nx (l.map UE.u))) := svB_sto hany H200.out
  clear hany H200
  go_wp2_with fail
  refine (implSok_any a n ca X a' n' ca' Y ep nx ua un uc lo l w1 (HX.out _ HB1.out).2.1 (HX.out _ HB1.out).2.2.1 hln hln' HL.out.2.1 (HX.out _ HB1.out).2.2.2.1 HL.out.1 hul hsl (HX.out _ HB1.out).2.2.2.2.2.2.1 (HX.out _ HB1.out).2.2.2.2.2.2.2).mono ?_
  rintro e w2 ⟨rfl, hb2⟩
  have HBw : Hid (Below w.heap.size w w2) := (HX.out _ (HB1.out.trans (hb2.mono HB1.out.size))).2.2.2.2.1
  obtain ⟨q, hq⟩ : ∃ q, decB (SOk X Y ep nx (l.map UE.u)) = q := ⟨_, rfl⟩
  have HD : Hid (svB X Y ep nx (l.map UE.u) hs = q) := HF.out.trans hq
  rw [hq]
  clear hb2 hq HF HX HB1 HA0 c0 c1 c2 c3 c4
  go_wp2_with fail
  go_ret
  exact ⟨by rw [HD.out]; rfl, HBw.out⟩

end Go.Proofs.YtogopmngbjkcjavGreatDoor

namespace Go.Proofs.YtogopmngbjkcjavGreatDoor
open Go.RowKit
set_option linter.unusedVariables false

set_option maxRecDepth 10000 in
set_option maxHeartbeats 1600000 in
theorem szServer_any (a : Option Addr) (n ca : Nat) (X : List ByteArray) (a' : Option Addr) (n' ca' : Nat) (Y : List ByteArray) (ep nx : Int) (ua : Option Addr) (un uc : Nat) (l : List UE) (ha : Option Addr) (hn hc : Nat) (hs : List Hd) (w : World) (h1 : Strs w a n X) (h2 : Strs w a' n' Y) (hu : UpsI w ua un l) (hln : n ≤ maxLen) (hln' : n' ≤ maxLen) (hlu : un ≤ maxLen) (hlh : hn ≤ maxLen) :
    Calls Tryz.prog 7 #[.agg #[.slice a n ca, .slice a' n' ca', .int .i64 ep, .int .i64 nx, .slice ua un uc, .slice ha hn hc], .int .i64 1048576] w fun r w' => (∃ L : Int, r = .returned (.int .i64 L) ∧ (L < 0 ∨ (SzS n X n' Y un l ∧ hn ≤ 1048576 ∧ 0 ≤ L))) ∧ Below w.heap.size w w' := by
  have HX : Hid (∀ W, Below w.heap.size w W → Strs W a n X ∧ Strs W a' n' Y ∧ UpsI W ua un l) := fun W h => ⟨h1.below h, h2.below h, hu.below h⟩
  have HA : Hid (BoxN (w.alloc (.cells #[.slice a n ca, .slice a' n' ca', .int .i64 ep, .int .i64 nx, .slice ua un uc, .slice ha hn hc] 30)) w.heap.size 30 [.slice a n ca, .slice a' n' ca', .int .i64 ep, .int .i64 nx, .slice ua un uc, .slice ha hn hc]) := BoxN.new _ _ _
  have HB : Hid (Below w.heap.size w (w.alloc (.cells #[.slice a n ca, .slice a' n' ca', .int .i64 ep, .int .i64 nx, .slice ua un uc, .slice ha hn hc] 30))) := (Below.refl _ _).alloc (Nat.le_refl _) _
  clear h1 h2 hu
  go_enter Tryz.func7, Tryz.ntmps7
  go_wp2_with fail
  refine (szStore_any a n ca X a' n' ca' Y ep nx ua un uc l _ (HX.out _ HB.out).1 (HX.out _ HB.out).2.1 (HX.out _ HB.out).2.2 hln hln' hlu).mono ?_
  rintro _ x1 ⟨⟨v, rfl, hv⟩, hb1⟩
  have HV : Hid (v < 0 ∨ (SzS n X n' Y un l ∧ 0 ≤ v ∧ v ≤ 1048576)) := hv
  have HB1 : Hid (Below w.heap.size w x1) := HB.out.trans (hb1.mono HB.out.size)
  have c5 := BoxN.cell (HA.out.stays hb1) 5 rfl
  clear hb1 hv
  by_cases hneg : v < 0
  · go_wp2_with fail
    go_ret
    exact ⟨⟨-1, rfl, .inl (by omega)⟩, HB1.out⟩
  have hv0 : 0 ≤ v := by omega
  have hvm : v ≤ 1048576 := by
    rcases HV.out with h | h
    · exact absurd h (by omega)
    · exact h.2.2
  go_wp2_with fail
  refine (szHeldS_any ha hn hc v x1 hv0 hvm hlh).mono ?_
  rintro _ x2 ⟨⟨L, rfl, hL⟩, hb2⟩
  have HL : Hid (L < 0 ∨ (hn ≤ 1048576 ∧ 0 ≤ L ∧ L ≤ v)) := hL
  have HB2 : Hid (Below w.heap.size w x2) := HB1.out.trans (hb2.mono HB1.out.size)
  clear hb2 hL c5
  by_cases hneg2 : L < 0
  · go_wp2_with fail
    go_ret
    exact ⟨⟨-1, rfl, .inl (by omega)⟩, HB2.out⟩
  have HS : Hid (SzS n X n' Y un l ∧ hn ≤ 1048576 ∧ 0 ≤ L) := by
    rcases HV.out with h | h
    · exact absurd h (by omega)
    rcases HL.out with h' | h'
    · exact absurd h' (by omega)
    exact ⟨h.1, h'.1, h'.2.1⟩
  go_wp2_with fail
  go_ret
  exact ⟨⟨L, rfl, .inr HS.out⟩, HB2.out⟩

end Go.Proofs.YtogopmngbjkcjavGreatDoor

namespace Go.Proofs.YtogopmngbjkcjavGreatDoor
open Go.RowKit
set_option linter.unusedVariables false

theorem texts_at {W : World} {base n C : Nat} {A : Option Addr} {X : List ByteArray} (h : OwnSt W base (.slice A n C) n X) (hn : 0 < n) : ∃ g, A = some ⟨g, 0, none⟩ := by
  rcases h.1.2 with ⟨_, h0⟩ | ⟨g, cap', cur, he, _⟩
  · omega
  · injection he with e1 _ _
    exact ⟨g, e1⟩

/-- A cell of a row of texts, and that it is not frozen. -/
theorem texts_cell {W : World} {base g n C : Nat} {X : List ByteArray} (h : OwnSt W base (.slice (some ⟨g, 0, none⟩) n C) n X) {k : Nat} (hk : k < n) : ∃ x, X[k]? = some x ∧ W.cell? ⟨g, k, none⟩ = some (.string x) ∧ W.frozen? ⟨g, k, none⟩ = false := by
  have hl := h.len
  have hkx : k < X.length := by omega
  refine ⟨X[k], List.getElem?_eq_getElem hkx, ?_, h.1.frozenAt k⟩
  have := h.1.cellAt k (by rw [Nat.mul_one]; exact hk)
  rw [this, scells, List.getElem?_map, List.getElem?_eq_getElem hkx]
  rfl

theorem scells_put (l : List ByteArray) (k : Nat) (x : ByteArray) : (scells l).set k (.string x) = scells (l.set k x) := by rw [scells, scells, List.map_set]

/-- A sector is put. -/
theorem StoAt.putNow {W : World} {base g : Nat} {n ca : Nat} {X : List ByteArray} {a' : Option Addr} {n' ca' : Nat} {Y : List ByteArray} {ua : Option Addr} {un uc : Nat} {l : List UE} (h : StoAt W base (some ⟨g, 0, none⟩) n ca X a' n' ca' Y ua un uc l) (k : Nat) (x : ByteArray) (hx : x.size ≤ maxLen) : StoAt (W.setCell ⟨g, k, none⟩ (.string x)) base (some ⟨g, 0, none⟩) n ca (X.set k x) a' n' ca' Y ua un uc l := by
  have hst := h.now.1.stored k (.string x)
  have hg : W.grownBy (W.setCell ⟨g, k, none⟩ (.string x)) (some g) := hst.2
  refine ⟨⟨?_, fun y hy => ?_⟩, h.sure.setCell (fun e => ?_) _, h.apart, h.ups.keptS h.now hg, h.len⟩
  · rw [← scells_put]
    exact hst.1
  · rcases List.mem_or_eq_of_mem_set hy with h2 | rfl
    · exact h.now.2 y h2
    · exact hx
  · rw [blk_own] at e
    exact h.apart g rfl e

/-- The uploads of a store are put down anew, in their row or in new ones. -/
theorem StoAt.upsTo {W W' : World} {base : Nat} {a : Option Addr} {n ca : Nat} {X : List ByteArray} {a' : Option Addr} {n' ca' : Nat} {Y : List ByteArray} {ua : Option Addr} {un uc : Nat} {l : List UE} {ua' : Option Addr} {un' uc' : Nat} {l' : List UE} (h : StoAt W base a n ca X a' n' ca' Y ua un uc l) (hg : W.grownBy W' (Value.slice ua un uc).ownBlock) (hu : UpRow W' base (.slice ua' un' uc') l') (hl : un' = l'.length) : StoAt W' base a n ca X a' n' ca' Y ua' un' uc' l' :=
  ⟨h.now.keptR h.ups.1 (by decide) hg, h.sure.keptR h.ups.1 (by decide) hg, h.apart, hu, hl⟩

/-- The store has other uploads. -/
theorem StoAt.withUps {W : World} {base : Nat} {a : Option Addr} {n ca : Nat} {X : List ByteArray} {a' : Option Addr} {n' ca' : Nat} {Y : List ByteArray} {ua : Option Addr} {un uc : Nat} {l : List UE} {ua' : Option Addr} {un' uc' : Nat} {l' : List UE} (h : StoAt W base a n ca X a' n' ca' Y ua un uc l) (hu : UpRow W base (.slice ua' un' uc') l') (hl : un' = l'.length) : StoAt W base a n ca X a' n' ca' Y ua' un' uc' l' :=
  ⟨h.now, h.sure, h.apart, hu, hl⟩

/-- A cell of a variable is written that is of none of the rows' types. -/
theorem StoAt.setBox {W : World} {base b i : Nat} {t : TypeId} {a : Option Addr} {n ca : Nat} {X : List ByteArray} {a' : Option Addr} {n' ca' : Nat} {Y : List ByteArray} {ua : Option Addr} {un uc : Nat} {l : List UE} {vs : List Value} (h : StoAt W base a n ca X a' n' ca' Y ua un uc l) (hb : BoxN W b t vs) (u : Value) (h0 : t ≠ 9 := by decide) (h1 : t ≠ 118 := by decide) (h2 : t ≠ 5 := by decide) : StoAt (W.setCell ⟨b, i, none⟩ u) base a n ca X a' n' ca' Y ua un uc l := by
  refine ⟨h.now.setCell (fun e => ?_) u, h.sure.setCell (fun e => ?_) u, h.apart, h.ups.setBox hb h1 h2, h.len⟩
  · exact hb.noRow h.now.1 h0 (by rw [ownBlock_sU]; rw [blk_own] at e; exact e)
  · exact hb.noRow h.sure.1 h0 (by rw [ownBlock_sU]; rw [blk_own] at e; exact e)

end Go.Proofs.YtogopmngbjkcjavGreatDoor
