/- The specification's StreamRun answers the state behind the good events and their number; nothing is written. -/
import Derived.Test.YtcfinhepcpjcnaoDoorStmRunN
import Derived.Test.YtcfinhepcpjcnaoDoorStmSpec
namespace Go.Proofs.YtcfinhepcpjcnaoDoor
open Go.RowKit
set_option linter.unusedVariables false

set_option maxRecDepth 10000 in
set_option maxHeartbeats 800000 in
theorem specRun_any (a : Option Addr) (len cap : Nat) (zs : List Int) (w : World) (hs : SegI w a len zs) (hl : len ≤ 1099511627776) :
    Calls Tryd.prog 24 #[.slice a len cap] w fun e w' => e = .returned (.tuple #[.int .i64 (runN 0 zs).1, .int .i64 ((runN 0 zs).2 : Nat)]) ∧ w' = w := by
  have HS : Hid (SegI w a len zs) := hs
  have HL : Hid (zs.length = len) := hs.1
  have HC : Hid (∀ s ev, Calls Tryd.prog 22 #[.int .i64 s, .int .i64 ev] w fun e w' => e = .returned (.tuple #[.int .i64 (stepN s ev).1, .int .i64 (stepN s ev).2]) ∧ w' = w) := fun s ev => specStep_any s ev w
  clear hs
  go_enter Tryd.func24, Tryd.ntmps24
  go_wp2_with fail
  go_loopw [4, 5] (fun v i wr => ∃ (k : Nat) (s : Int), k ≤ len ∧ v = .int .i64 s ∧ i = .int .i64 k ∧ wr = w ∧ Hid (AtRun zs k s)) (fun _ i _ => len - (intOf i).toNat)
  case atStart => exact ⟨0, 0, Nat.zero_le _, rfl, rfl, rfl, AtRun.zero zs⟩
  case round =>
    obtain ⟨k, s, hk, rfl, rfl, hwr, HA⟩ := hrel
    subst hwr
    by_cases hlt : k < len
    · obtain ⟨b, off, rfl, hb, hc⟩ := HS.out.at hlt
      have hki : (k : Int) < (len : Int) := by omega
      have hk0 : (0 : Int) ≤ (k : Int) := by omega
      have hkz : Hid (k < zs.length) := by show _ < _; rw [HL.out]; exact hlt
      have HG : Hid ((stepN s (zs.getD k 0)).2 = 0 → AtRun zs (k + 1) (stepN s (zs.getD k 0)).1) := fun h => HA.out.next hkz.out h
      have HN : Hid (¬ (stepN s (zs.getD k 0)).2 = 0 → runN 0 zs = (s, k)) := fun h => HA.out.stop hkz.out h
      have HC2 : Hid (Calls Tryd.prog 22 #[.int .i64 s, .int .i64 (zs.getD k 0)] wr fun e w' => e = .returned (.tuple #[.int .i64 (stepN s (zs.getD k 0)).1, .int .i64 (stepN s (zs.getD k 0)).2]) ∧ w' = wr) := HC.out s (zs.getD k 0)
      clear HC HA hkz HS HL
      generalize zs.getD k 0 = x at *
      generalize stepN s x = p at *
      obtain ⟨n, c⟩ := p
      dsimp only at *
      by_cases hc0 : c = 0
      · subst hc0
        go_wp2_with fail
        refine HC2.out.mono ?_
        rintro e w' ⟨rfl, hw'⟩
        subst hw'
        go_wp2_with fail
        go_roundw
        case rel => exact ⟨k + 1, n, by omega, rfl, by go_num, by first | rfl | trivial, HG.out (by first | rfl | trivial)⟩
        case measure => simp [intOf]; omega
      · have hcb : (c != 0) = true := by simpa using hc0
        have hcb2 : (c == 0) = false := by simpa using hc0
        go_wp2_with fail
        refine HC2.out.mono ?_
        rintro e w' ⟨rfl, hw'⟩
        subst hw'
        go_wp2_with fail
        go_ret2
        exact ⟨by simp [HN.out hc0], rfl⟩
    · have hkl : k = zs.length := by rw [HL.out]; omega
      have hln : len = k := by omega
      have he : runN 0 zs = (s, zs.length) := AtRun.all (hkl ▸ HA.out)
      have HE : Hid (runN 0 zs = (s, k)) := by show _ = _; rw [he, ← hkl]
      clear he hkl HC HS HL HA
      subst hln
      go_wp2_with fail
      go_ret2
      exact ⟨by simp [HE.out], rfl⟩

end Go.Proofs.YtcfinhepcpjcnaoDoor
