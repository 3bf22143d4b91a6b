/- The law that what is put into a sector of a drawn disk is there, and others are as they were. -/
import Derived.Test.YtnbmlkkjgecigaeDrawPutP
import Derived.Test.YtnbmlkkjgecigaeDskPutI
import Derived.Test.YtnbmlkkjgecigaeSecAtI
import Derived.Test.YtnbmlkkjgecigaeLawBig
import Derived.Deep.QuietTactic
namespace Go.Proofs.Ytnbmlkkjgecigae
open Go.RowKit
set_option linter.unusedVariables false

theorem putX_other {xs ys : List ByteArray} {i : Int} {s : ByteArray} {k : Nat} (h : ¬ (mayPut xs ys i s = true ∧ (k : Int) = i)) : (putX xs ys i s)[k]? = xs[k]? := by
  rw [putX]
  split
  · rename_i hm
    have hb : 0 ≤ i := by
      simp only [mayPut, Bool.and_eq_true, decide_eq_true_eq] at hm
      exact hm.1.2.1
    rw [List.getElem?_set, if_neg]
    intro e
    exact h ⟨hm, by omega⟩
  · rfl

theorem putX_there {xs ys : List ByteArray} {i : Int} {s : ByteArray} (hm : mayPut xs ys i s = true) : secAt (putX xs ys i s) i = s := by
  have hb := hm
  simp only [mayPut, Bool.and_eq_true, decide_eq_true_eq] at hb
  rw [secAt, putX_len, if_pos ⟨hb.1.2.1, by omega⟩, putX, if_pos hm, List.getD_eq_getElem?_getD, List.getElem?_set, if_pos rfl, if_pos (by omega)]
  rfl

theorem putX_ok {xs ys : List ByteArray} {i : Int} {s : ByteArray} (hm : mayPut xs ys i s = true) : okD (putX xs ys i s) ys = true := by
  have hb := hm
  simp only [mayPut, Bool.and_eq_true, decide_eq_true_eq] at hb
  obtain ⟨h1, h2, h3, h4⟩ := okD_iff.1 hb.1.1
  refine okD_iff.2 ⟨by rw [putX_len]; exact h1, by rw [putX_len]; exact h2, fun x hx => ?_, h4⟩
  rw [putX, if_pos hm] at hx
  rcases List.mem_or_eq_of_mem_set hx with h | rfl
  · exact h3 x h
  · exact hb.2

set_option maxRecDepth 10000 in
set_option maxHeartbeats 3200000 in
theorem lawPut_any (a : Option Addr) (len cap : Nat) (zs : List Int) (w : World) (hm : len ≤ maxLen) (hs : Seg w a len zs) :
    Calls Try.prog 4 #[.slice a len cap] w fun e w' => e = .returned (.bool true) ∧ Below w.heap.size w w' := by
  have HS : Hid (Seg w a len zs) := hs
  clear hs
  by_cases hbig : (1048576 : Int) < (len : Int)
  · have hd : Hid (decide ((1048576 : Int) < (len : Int)) = true) := by show _ = _; simpa using hbig
    go_enter Try.func4, Try.ntmps4
    go_wp2_with fail
    refine (big_any a len cap w hm).mono ?_
    rintro e w1 ⟨rfl, hw1⟩
    subst w1
    rw [hd.out]
    go_wp2_with fail
    go_ret
    exact ⟨rfl, Below.refl _ _⟩
  have hd : Hid (decide ((1048576 : Int) < (len : Int)) = false) := by show _ = _; simpa using hbig
  have hl : len ≤ 1099511627776 := by omega
  clear hbig
  go_enter Try.func4, Try.ntmps4
  go_wp2_with fail
  refine (big_any a len cap w hm).mono ?_
  rintro e w1 ⟨rfl, hw1⟩
  subst w1
  rw [hd.out]
  go_wp2_with fail
  refine (drawPut_any a len cap zs w HS.out hl).mono ?_
  rintro e w2 ⟨⟨v, rfl, A, n, C, A', n', C', X, Y, i, s, rfl, hn, hn', hi0, hi1, hs65, hX, hY⟩, hb2⟩
  have HB3 : Hid (Below w.heap.size w (w2.alloc (.cells #[.slice A n C, .slice A' n' C'] 26))) := hb2.alloc hb2.size _
  have HQ3 : Hid (Box2R (w2.alloc (.cells #[.slice A n C, .slice A' n' C'] 26)) w2.heap.size 26 (.slice A n C) (.slice A' n' C')) := Box2R.new _ _ _ _
  have HX3 : Hid (Strs (w2.alloc (.cells #[.slice A n C, .slice A' n' C'] 26)) A n X ∧ Strs (w2.alloc (.cells #[.slice A n C, .slice A' n' C'] 26)) A' n' Y) := ⟨hX.below ((Below.refl _ _).alloc (Nat.le_refl _) _), hY.below ((Below.refl _ _).alloc (Nat.le_refl _) _)⟩
  have HLn : Hid (X.length = n ∧ Y.length = n') := ⟨hX.1, hY.1⟩
  have hsm : s.size ≤ maxLen := by unfold maxLen; omega
  clear hX hY hb2
  go_wp2_with fail
  obtain ⟨w3, hw3⟩ : ∃ w3, w2.alloc (.cells #[.slice A n C, .slice A' n' C'] 26) = w3 := ⟨_, rfl⟩
  rw [hw3] at HB3 HQ3 HX3 ⊢
  clear hw3
  generalize w2.heap.size = b at *
  refine (implPutD_any A n C X A' n' C' Y i s w3 HX3.out.1 HX3.out.2 (by omega) (by omega) hsm).mono ?_
  rintro e w4 ⟨⟨v, rfl, hans⟩, hb4⟩
  obtain ⟨P, D, P', D', rfl, o1, o2, hap⟩ := hans.at (n := n) (n' := n') (by rw [putX_len]; exact HLn.out.1) HLn.out.2
  have HB5 : Hid (Below w.heap.size w (w4.alloc (.cells #[.slice P n D, .slice P' n' D'] 26))) := (HB3.out.trans (hb4.mono HB3.out.size)).alloc (HB3.out.trans (hb4.mono HB3.out.size)).size _
  have h45 : Below w4.heap.size w4 (w4.alloc (.cells #[.slice P n D, .slice P' n' D'] 26)) := (Below.refl _ _).alloc (Nat.le_refl _) _
  have h35 := hb4.trans (h45.mono hb4.size)
  have HQ5 : Hid (Box2R (w4.alloc (.cells #[.slice P n D, .slice P' n' D'] 26)) b 26 (.slice A n C) (.slice A' n' C')) := HQ3.out.stays h35
  have HP5 : Hid (Box2R (w4.alloc (.cells #[.slice P n D, .slice P' n' D'] 26)) w4.heap.size 26 (.slice P n D) (.slice P' n' D')) := Box2R.new _ _ _ _
  have HX5 : Hid (Strs (w4.alloc (.cells #[.slice P n D, .slice P' n' D'] 26)) A n X ∧ Strs (w4.alloc (.cells #[.slice P n D, .slice P' n' D'] 26)) A' n' Y ∧ Strs (w4.alloc (.cells #[.slice P n D, .slice P' n' D'] 26)) P n (putX X Y i s) ∧ Strs (w4.alloc (.cells #[.slice P n D, .slice P' n' D'] 26)) P' n' Y) := ⟨HX3.out.1.below h35, HX3.out.2.below h35, o1.strs.below h45, o2.strs.below h45⟩
  obtain ⟨c0, c1⟩ := HQ5.out.cells
  clear hans o1 o2 hap hb4 h45 h35 HB3 HQ3 HX3
  go_wp2_with fail
  obtain ⟨w5, hw5⟩ : ∃ w5, w4.alloc (.cells #[.slice P n D, .slice P' n' D'] 26) = w5 := ⟨_, rfl⟩
  rw [hw5] at HB5 HQ5 HP5 HX5 c0 c1 ⊢
  clear hw5
  generalize w4.heap.size = p at *
  refine (specPutD_any A n C X A' n' C' Y i s w5 HX5.out.1 HX5.out.2.1 (by omega) (by omega) hsm).mono ?_
  rintro e w6 ⟨⟨v, rfl, hans⟩, hb6⟩
  obtain ⟨G, E, G', E', rfl, o1, o2, hap⟩ := hans.at (n := n) (n' := n') (by rw [putX_len]; exact HLn.out.1) HLn.out.2
  have HB6 : Hid (Below w.heap.size w w6) := HB5.out.trans (hb6.mono HB5.out.size)
  have HQ6 : Hid (∀ W, Below w6.heap.size w6 W → Box2R W b 26 (.slice A n C) (.slice A' n' C') ∧ Box2R W p 26 (.slice P n D) (.slice P' n' D')) := fun W h => ⟨(HQ5.out.stays hb6).stays h, (HP5.out.stays hb6).stays h⟩
  have HX6 : Hid (∀ W, Below w6.heap.size w6 W → Strs W A n X ∧ Strs W P n (putX X Y i s) ∧ Strs W P' n' Y) := fun W h => ⟨(HX5.out.1.below hb6).below h, (HX5.out.2.2.1.below hb6).below h, (HX5.out.2.2.2.below hb6).below h⟩
  clear hans o1 o2 hap hb6 HB5 HQ5 HP5 HX5 c0 c1
  have HB67 : Hid (Below w6.heap.size w6 (w6.alloc (.cells #[.slice G n E, .slice G' n' E'] 26))) := (Below.refl _ _).alloc (Nat.le_refl _) _
  obtain ⟨⟨c0, c1⟩, ⟨d0, d1⟩⟩ := (show _ ∧ _ from ⟨(HQ6.out _ HB67.out).1.cells, (HQ6.out _ HB67.out).2.cells⟩)
  have hnn : ((n : Int) != (n : Int)) = false := by simp
  have HO : Hid (∀ k : Nat, ¬ (mayPut X Y i s = true ∧ (k : Int) = i) → (putX X Y i s)[k]? = X[k]?) := fun k h => putX_other h
  have HT : Hid (mayPut X Y i s = true → secAt (putX X Y i s) i = s ∧ okD (putX X Y i s) Y = true) := fun h => ⟨putX_there h, putX_ok h⟩
  generalize mayPut X Y i s = m at *
  generalize putX X Y i s = Z at *
  have hmm : (m != m) = false := by simp
  go_wp2_with fail
  obtain ⟨w7, hw7⟩ : ∃ w7, w6.alloc (.cells #[.slice G n E, .slice G' n' E'] 26) = w7 := ⟨_, rfl⟩
  rw [hw7] at HB67 c0 c1 d0 d1 ⊢
  clear hw7
  have HB7 : Hid (Below w.heap.size w w7) := HB6.out.trans (HB67.out.mono HB6.out.size)
  have HQ7 : Hid (∀ W, Below w7.heap.size w7 W → Box2R W b 26 (.slice A n C) (.slice A' n' C') ∧ Box2R W p 26 (.slice P n D) (.slice P' n' D')) := fun W h => HQ6.out W (HB67.out.trans (h.mono HB67.out.size))
  have HX7 : Hid (∀ W, Below w7.heap.size w7 W → Strs W A n X ∧ Strs W P n Z ∧ Strs W P' n' Y) := fun W h => HX6.out W (HB67.out.trans (h.mono HB67.out.size))
  clear HB67 HB6 HQ6 HX6
  generalize w6.heap.size = p6 at *
  go_loopw [10] (fun v wr => ∃ k : Nat, k ≤ n ∧ v = .int .i64 k ∧ Hid (Below w7.heap.size w7 wr)) (fun v _ => n - (intOf v).toNat)
  case atStart => exact ⟨0, Nat.zero_le _, rfl, Below.refl _ _⟩
  case round =>
    obtain ⟨k, hk, rfl, HW⟩ := hrel
    clear c0 c1 d0 d1
    obtain ⟨⟨c0, c1⟩, ⟨d0, d1⟩⟩ := (show _ ∧ _ from ⟨(HQ7.out _ HW.out).1.cells, (HQ7.out _ HW.out).2.cells⟩)
    by_cases hlt : k < n
    · obtain ⟨q, qo, x, hA, _, hkx, hq⟩ := (HX7.out _ HW.out).1.at hlt
      obtain ⟨g, go, z, hP, _, hkz, hg⟩ := (HX7.out _ HW.out).2.1.at hlt
      subst hA hP
      have hki : (k : Int) < (n : Int) := by omega
      have hk0 : (0 : Int) ≤ (k : Int) := by omega
      by_cases hmi : m = true ∧ (k : Int) = i
      · obtain ⟨rfl, rfl⟩ := hmi
        clear hkx hkz
        have hii : ((k : Int) == (k : Int)) = true := by simp
        go_wp2_with fail
        go_quiet (fail)
        go_wp2_with fail
        go_roundw
        case rel => exact ⟨k + 1, by omega, by go_num, below_drewN HW.out _⟩
        case measure => simp [intOf]; omega
      · obtain rfl : z = x := by
          have := HO.out k hmi
          rw [hkz, hkx] at this
          exact Option.some.inj this
        clear hkx hkz
        by_cases hm1 : m = true
        · subst hm1
          have hii : ((k : Int) == i) = false := by rw [beq_eq_false_iff_ne]; exact fun e => hmi ⟨rfl, e⟩
          clear hmi
          go_wp2_with fail
          go_quiet (fail)
          go_wp2_with fail
          go_roundw
          case rel => exact ⟨k + 1, by omega, by go_num, below_drewN HW.out _⟩
          case measure => simp [intOf]; omega
        · obtain rfl : m = false := by simpa using hm1
          clear hmi hm1
          go_wp2_with fail
          go_quiet (fail)
          go_wp2_with fail
          go_roundw
          case rel => exact ⟨k + 1, by omega, by go_num, below_drewN HW.out _⟩
          case measure => simp [intOf]; omega
    · have hkl : k = n := by omega
      subst hkl
      cases m
      · go_wp2_with fail
        go_ret
        exact ⟨rfl, HB7.out.trans (HW.out.mono HB7.out.size)⟩
      · obtain ⟨hsec, hokd⟩ := HT.out rfl
        go_wp2_with fail
        refine (implSec_any P k D Z P' n' D' i _ (HX7.out _ HW.out).2.1 (by omega)).mono ?_
        rintro e w8 ⟨rfl, hb8⟩
        rw [hsec]
        have hb78 := HW.out.trans (hb8.mono HW.out.size)
        obtain ⟨e0, e1⟩ := (HQ7.out _ hb78).2.cells
        have HB8 : Hid (Below w.heap.size w w8) := HB7.out.trans (hb78.mono HB7.out.size)
        have HX8 : Hid (Strs w8 P k Z ∧ Strs w8 P' n' Y) := ⟨(HX7.out _ hb78).2.1, (HX7.out _ hb78).2.2⟩
        have HOk : Hid (okD Z Y = true) := hokd
        clear hb8 hb78 hokd
        go_wp2_with fail
        refine (implDok_any P k D Z P' n' D' Y w8 HX8.out.1 HX8.out.2 (by omega) (by omega)).mono ?_
        rintro e w9 ⟨rfl, hb9⟩
        rw [HOk.out]
        have HB9 : Hid (Below w.heap.size w w9) := HB8.out.trans (hb9.mono HB8.out.size)
        clear hb9
        go_wp2_with fail
        go_ret
        exact ⟨rfl, HB9.out⟩

end Go.Proofs.Ytnbmlkkjgecigae
