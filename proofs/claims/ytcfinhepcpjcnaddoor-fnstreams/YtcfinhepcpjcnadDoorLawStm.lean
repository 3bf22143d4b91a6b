/- The law that a closed stream stays so, that who has ended puts nothing more, and that events one by one are as a run. -/
import Derived.Test.YtcfinhepcpjcnadDoorStmBack
import Derived.Test.YtcfinhepcpjcnadDoorStmMay
import Derived.Test.YtcfinhepcpjcnadDoorStmSpec
import Derived.Test.YtcfinhepcpjcnadDoorStmRun
import Derived.Test.YtcfinhepcpjcnadDoorDrawStm
import Derived.Test.YtcfinhepcpjcnadDoorLawBig
import Derived.Deep.CutBlock
namespace Go.Proofs.YtcfinhepcpjcnadDoor
open Go.RowKit
set_option linter.unusedVariables false

theorem may_putHere : ((stepN 3 8).2 == 0) = false := by decide +kernel
theorem may_getThere : ((stepN 2 3).2 == 0) = false := by decide +kernel
theorem may_putClosed : ((stepN 4 8).2 == 0) = false := by decide +kernel
theorem may_putOpen : ((stepN 1 8).2 == 0) = true := by decide +kernel
theorem may_getOpen : ((stepN 1 3).2 == 0) = true := by decide +kernel

set_option maxRecDepth 10000 in
set_option maxHeartbeats 3200000 in
theorem lawStm_any (a : Option Addr) (len cap : Nat) (zs : List Int) (w : World) (hm : len ≤ maxLen) (hs : Seg w a len zs) (hT : StmT w) :
    Calls Tryd.prog 5 #[.slice a len cap] w fun e w' => e = .returned (.bool true) ∧ Below w.heap.size w w' := by
  have HS : Hid (Seg w a len zs) := hs
  have HT : Hid (StmT w) := hT
  clear hs hT
  by_cases hbig : (1048576 : Int) < (len : Int)
  · have hd : Hid (decide ((1048576 : Int) < (len : Int)) = true) := by show _ = _; simpa using hbig
    go_enter Tryd.func5, Tryd.ntmps5
    go_wp2_with fail
    refine (big_any a len cap w hm).mono ?_
    rintro e w1 ⟨rfl, hw1⟩
    subst w1
    rw [hd.out]
    go_wp2_with fail
    go_ret
    exact ⟨rfl, Below.refl _ _⟩
  have hd : Hid (decide ((1048576 : Int) < (len : Int)) = false) := by show _ = _; simpa using hbig
  have hl : len ≤ 1099511627776 := by omega
  clear hbig
  go_enter Tryd.func5, Tryd.ntmps5
  go_wp2_with fail
  refine (big_any a len cap w hm).mono ?_
  rintro e w1 ⟨rfl, hw1⟩
  subst w1
  rw [hd.out]
  go_wp2_with fail
  refine (drawStep_any a len cap zs w HS.out hl).mono ?_
  rintro e w2 ⟨s, ev, rfl, hb2⟩
  have HB2 : Hid (Below w.heap.size w w2) := hb2
  have HT2 : Hid (StmT w2) := HT.out.below hb2
  clear hb2
  have HI : Hid (Calls Tryd.prog 17 #[.int .i64 s, .int .i64 ev] w2 fun e w' => e = .returned (.tuple #[.int .i64 (stepN s ev).1, .int .i64 (stepN s ev).2]) ∧ w' = w2) := implStep_any s ev w2 HT2.out
  have HP : Hid (Calls Tryd.prog 18 #[.int .i64 s, .int .i64 ev] w2 fun e w' => e = .returned (.tuple #[.int .i64 (stepN s ev).1, .int .i64 (stepN s ev).2]) ∧ w' = w2) := specStep_any s ev w2
  have HA : Hid (((stepN s ev).2 ≠ 0 → (stepN s ev).1 = s) ∧ (s = 4 → (stepN s ev).1 = 4) ∧ ((stepN s ev).2 = 0 → s ≤ (stepN s ev).1)) := stepN_said s ev
  generalize stepN s ev = p at *
  obtain ⟨n, c⟩ := p
  dsimp only at *
  go_wp2_with fail
  refine HI.out.mono ?_
  rintro e w' ⟨rfl, hw'⟩
  subst hw'
  go_wp2_with fail
  refine HP.out.mono ?_
  rintro e w'' ⟨rfl, hw'⟩
  subst hw'
  clear HI HP
  have hA : (c ≠ 0 ∧ n = s ∧ s = 4) ∨ (c ≠ 0 ∧ n = s ∧ s ≠ 4) ∨ (c = 0 ∧ s = 4 ∧ n = 4) ∨ (c = 0 ∧ s ≠ 4 ∧ ¬ n < s) := by
    obtain ⟨h1, h2, h3⟩ := HA.out
    by_cases hc : c = 0
    · by_cases hs : s = 4
      · exact .inr (.inr (.inl ⟨hc, hs, h2 hs⟩))
      · exact .inr (.inr (.inr ⟨hc, hs, by have := h3 hc; omega⟩))
    · by_cases hs : s = 4
      · exact .inl ⟨hc, h1 hc, hs⟩
      · exact .inr (.inl ⟨hc, h1 hc, hs⟩)
  clear HA
  have hcc : (c != c) = false := by simp
  have hss : (s != s) = false := by simp
  go_upto_region 6 with fail
  go_cut [69] from 20 (fun v W => v = .bool false ∧ Hid (W = w''))
  case first =>
    rcases hA with ⟨h1, h2, h3⟩ | ⟨h1, h2, h3⟩ | ⟨h1, h2, h3⟩ | ⟨h1, h2, h3⟩
    · subst h2
      subst h3
      have e1 : (c != 0) = true := by simpa using h1
      have e2 : (c == 0) = false := by simpa using h1
      clear h1
      go_wp2_with fail
      go_meet
      exact ⟨by simp, rfl⟩
    · subst h2
      have e1 : (c != 0) = true := by simpa using h1
      have e2 : (c == 0) = false := by simpa using h1
      have e3 : (n == 4) = false := by simpa using h3
      clear h1 h3
      go_wp2_with fail
      go_meet
      exact ⟨by simp, rfl⟩
    · subst h1
      subst h2
      subst h3
      clear hcc hss
      go_wp2_with fail
      go_meet
      exact ⟨by simp, rfl⟩
    · subst h1
      have e3 : (s == 4) = false := by simpa using h2
      have e4 : decide (n < s) = false := by simpa using h3
      have e5 : (n < s) = False := by simpa using h3
      clear h2 h3 hcc
      go_wp2_with fail
      go_meet
      exact ⟨by simp, rfl⟩
  case rest =>
  obtain ⟨rfl, HWc⟩ := hcut
  rw [HWc.out]
  clear HWc hA
  go_wp2_with fail
  refine (implMayPut_any 3 _ HT2.out).mono ?_
  rintro e u ⟨rfl, rfl⟩
  rw [may_putHere]
  go_wp2_with fail
  refine (implMayGet_any 2 _ HT2.out).mono ?_
  rintro e u ⟨rfl, rfl⟩
  rw [may_getThere]
  go_wp2_with fail
  refine (implMayPut_any 4 _ HT2.out).mono ?_
  rintro e u ⟨rfl, rfl⟩
  rw [may_putClosed]
  go_wp2_with fail
  refine (implMayPut_any 1 _ HT2.out).mono ?_
  rintro e u ⟨rfl, rfl⟩
  rw [may_putOpen]
  go_wp2_with fail
  refine (implMayGet_any 1 _ HT2.out).mono ?_
  rintro e u ⟨rfl, rfl⟩
  rw [may_getOpen]
  go_wp2_with fail
  refine (drawRun_any a len cap zs _ (HS.out.below HB2.out) hl).mono ?_
  rintro e w3 ⟨g, n3, cp, l, rfl, hn3, hs3, hb3⟩
  have HB3 : Hid (Below w.heap.size w w3) := HB2.out.trans (hb3.mono HB2.out.size)
  have HT3 : Hid (StmT w3) := HT2.out.below hb3
  have HS3 : Hid (SegI w3 (some ⟨g, 0, none⟩) n3 l) := hs3
  have HL3 : Hid (l.length = n3) := hs3.1
  clear hs3 hb3 HT2 HB2
  go_wp2_with fail
  refine (implRun_any _ n3 cp l w3 HT3.out HS3.out (by omega)).mono ?_
  rintro e u ⟨rfl, rfl⟩
  have HR1 : Hid ((runN 0 l).2 ≤ n3) := by show _ ≤ _; rw [← HL3.out]; exact runN_len l 0
  have HR2 : Hid (∀ k x, AtRun l k x → k < (runN 0 l).2 → (stepN x (l.getD k 0)).2 = 0 ∧ AtRun l (k + 1) (stepN x (l.getD k 0)).1) := fun k x h hk => ⟨h.good hk, h.next (by have := runN_len l 0; omega) (h.good hk)⟩
  have HR3 : Hid (∀ x, AtRun l (runN 0 l).2 x → x = (runN 0 l).1 ∧ ((runN 0 l).2 < n3 → (stepN x (l.getD (runN 0 l).2 0)).2 ≠ 0)) := fun x h => by rw [← HL3.out]; exact h.end
  generalize runN 0 l = r at *
  obtain ⟨st, p⟩ := r
  dsimp only at *
  have hp : p ≤ n3 := HR1.out
  clear HR1
  go_wp2_with fail
  go_loopw [12, 13] (fun v i wr => ∃ (k : Nat) (x : Int), k ≤ p ∧ v = .int .i64 x ∧ i = .int .i64 k ∧ wr = u ∧ Hid (AtRun l k x)) (fun _ i _ => p - (intOf i).toNat)
  case atStart => exact ⟨0, 0, Nat.zero_le _, rfl, rfl, rfl, AtRun.zero l⟩
  case round =>
    obtain ⟨k, x, hk, rfl, rfl, hwr, HA⟩ := hrel
    subst hwr
    by_cases hlt : k < p
    · obtain ⟨b, off, hab, hb, hc⟩ := HS3.out.at (show k < n3 by omega)
      injection hab with hab
      injection hab with h1 h2
      subst h1 h2
      rw [Nat.zero_add] at hc
      obtain ⟨q1, q2⟩ := HR2.out k x HA.out hlt
      have HN : Hid (AtRun l (k + 1) (stepN x (l.getD k 0)).1) := q2
      have HI : Hid (Calls Tryd.prog 17 #[.int .i64 x, .int .i64 (l.getD k 0)] wr fun e w' => e = .returned (.tuple #[.int .i64 (stepN x (l.getD k 0)).1, .int .i64 0]) ∧ w' = wr) := by
        have := implStep_any x (l.getD k 0) wr HT3.out
        rw [q1] at this
        exact this
      clear q1 q2 HR2 HR3 HA
      have hki : (k : Int) < (p : Int) := by omega
      have hkn : (k : Int) < (n3 : Int) := by omega
      have hk0 : (0 : Int) ≤ (k : Int) := by omega
      generalize (stepN x (l.getD k 0)).1 = y at *
      generalize l.getD k 0 = z at *
      go_wp2_with fail
      refine HI.out.mono ?_
      rintro e u2 ⟨rfl, hu2⟩
      subst hu2
      go_wp2_with fail
      go_roundw
      case rel => exact ⟨k + 1, y, by omega, rfl, by go_num, by first | rfl | trivial, HN⟩
      case measure => simp [intOf]; omega
    · have hkp : k = p := by omega
      subst hkp
      obtain ⟨q1, q2⟩ := HR3.out x HA.out
      subst q1
      by_cases hpn : k < n3
      · obtain ⟨b, off, hab, hb, hc⟩ := HS3.out.at hpn
        injection hab with hab
        injection hab with h1 h2
        subst h1 h2
        rw [Nat.zero_add] at hc
        have q3 := q2 hpn
        obtain ⟨y, d, hyd⟩ : ∃ y d, stepN x (l.getD k 0) = (y, d) := ⟨_, _, rfl⟩
        have HI : Hid (Calls Tryd.prog 17 #[.int .i64 x, .int .i64 (l.getD k 0)] wr fun e w' => e = .returned (.tuple #[.int .i64 y, .int .i64 d]) ∧ w' = wr) := by
          have := implStep_any x (l.getD k 0) wr HT3.out
          rw [hyd] at this
          exact this
        rw [hyd] at q3
        have hd0 : (d == 0) = false := by simpa using q3
        clear q3 q2 hyd HR2 HR3 HA
        have hkn : (k : Int) < (n3 : Int) := by omega
        have hk0 : (0 : Int) ≤ (k : Int) := by omega
        have hxx : (x == x) = true := by simp
        generalize l.getD k 0 = z at *
        go_wp2_with fail
        refine HI.out.mono ?_
        rintro e u2 ⟨rfl, hu2⟩
        subst hu2
        go_wp2_with fail
        go_ret
        exact ⟨ret_bool (by simp <;> omega), HB3.out⟩
      · have hkn : ¬ (k : Int) < (n3 : Int) := by omega
        have hxx : (x == x) = true := by simp
        clear q2 HR2 HR3 HA
        go_wp2_with fail
        go_ret
        exact ⟨ret_bool (by simp <;> omega), HB3.out⟩

end Go.Proofs.YtcfinhepcpjcnadDoor
