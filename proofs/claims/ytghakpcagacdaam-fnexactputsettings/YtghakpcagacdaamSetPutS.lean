/- What the specification's PutSettings answers: two bytes and four of each setting, in memory of its own; nothing that was there is written. For lists of at most 2^20 settings. -/
import Derived.Test.YtghakpcagacdaamSetPut
import Derived.Test.YtghakpcagacdaamPutToS
namespace Go.Proofs.Ytghakpcagacdaam
open Go.RowKit
set_option linter.unusedVariables false

set_option maxRecDepth 10000 in
set_option maxHeartbeats 1600000 in
theorem specPutS_any (a : Option Addr) (len cap : Nat) (l : List Sett) (w : World) (hx : Setts w a len l) (hl : len ≤ 1048576) :
    Calls Try.prog 30 #[.slice a len cap] w fun e w' => ∃ a' cap', e = .returned (.slice a' (6 * len) cap') ∧ Owns w' w.heap.size a' (6 * len) cap' (putS l) ∧ Below w.heap.size w w' := by
  have HX : Hid (Setts w a len l) := hx
  clear hx
  have HO0 : Hid (Owns (w.alloc (.cells #[] 5)) w.heap.size (some ⟨w.heap.size, 0, none⟩) 0 0 (putS (l.take 0))) := ⟨World.ownsRow_lit w #[] 0 (Nat.le_refl _) (Nat.zero_le _) rfl, fun x hx => by simp [putS] at hx⟩
  have HB0 : Hid (Below w.heap.size w (w.alloc (.cells #[] 5))) := (Below.refl _ _).alloc (Nat.le_refl _) _
  go_enter Try.func30, Try.ntmps30
  go_wp2_with fail
  go_loopw [3, 4] (fun v i wr => ∃ (k g c : Nat), k ≤ len ∧ i = .int .i64 k ∧ v = .slice (some ⟨g, 0, none⟩) (6 * k) c ∧ Hid (Owns wr w.heap.size (some ⟨g, 0, none⟩) (6 * k) c (putS (l.take k))) ∧ Hid (Below w.heap.size w wr)) (fun _ i _ => len - (intOf i).toNat)
  case atStart => exact ⟨0, _, 0, Nat.zero_le _, rfl, rfl, HO0, HB0⟩
  case round =>
    clear HO0 HB0
    obtain ⟨k, g, c, hk, rfl, rfl, HO, HB⟩ := hrel
    by_cases hlt : k < len
    · obtain ⟨ba, oa, x, y, rfl, hba, hfa, ha0, ha1, hxb, hyb⟩ := HX.out.at hlt
      have c0 : wr.cell? ⟨ba, oa + k * 2, none⟩ = some (.int .i64 x) := (HB.out.cell (p := ⟨ba, _, none⟩) hba).trans ha0
      have c1 : wr.cell? ⟨ba, oa + k * 2 + 1, none⟩ = some (.int .i64 y) := (HB.out.cell (p := ⟨ba, _, none⟩) hba).trans ha1
      have HF : Hid (putS (l.take (k + 1)) = putS (l.take k) ++ setB (x, y)) := putS_step l k (x, y) hfa
      have HXb : Hid (x ≤ 9223372036854775807) := hxb.2
      have HYb : Hid (y ≤ 9223372036854775807) := hyb.2
      have hbl : ba < wr.heap.size := Nat.lt_of_lt_of_le hba HB.out.size
      have hgl : g < wr.heap.size := (HO.out.lt g rfl).2
      clear hfa ha0 ha1 hxb hyb
      have hki : (k : Int) < (len : Int) := by omega
      have hk0 : (0 : Int) ≤ (k : Int) := by omega
      obtain ⟨K6, hK6⟩ : ∃ K6, 6 * k = K6 := ⟨_, rfl⟩
      have HK6 : Hid (6 * k = K6) := hK6
      have hKb : K6 ≤ 6291456 := by omega
      rw [hK6] at HO ⊢
      clear hK6
      go_wp2_with fail
      go_region_held3 (fun W => W.cell? ⟨ba, oa + k * 2, none⟩ = some (.int .i64 x) ∧ W.cell? ⟨ba, oa + k * 2 + 1, none⟩ = some (.int .i64 y)) (refine ⟨?_, ?_⟩ <;> assumption) (first
        | (go_at_call 44; refine (specPut_at g2 0 (K6 + 2) cc2 4 (K6 + 6) y _ _ ho2.seg (ho2.lt g2 rfl).2 (by omega) HYb.out (by omega) (by omega) rfl).mono ?_; rintro e x3 ⟨g3, cc3, rfl, ho3, hb3⟩
           have hbb3 : Below wr.heap.size wr x3 := hbb2.trans (hb3.mono hbb2.size)
           have d0 := (hbb3.cell (p := ⟨ba, oa + k * 2, none⟩) hbl).trans c0
           have d1 := (hbb3.cell (p := ⟨ba, oa + k * 2 + 1, none⟩) hbl).trans c1)
        | (go_at_call 44; refine (specPut_at g 0 K6 c 2 (K6 + 2) x _ _ (HO.out.seg.below (Below.refl _ _).drew) hgl (by omega) HXb.out (by omega) (by omega) rfl).mono ?_; rintro e x2 ⟨g2, cc2, rfl, ho2, hb2⟩
           have hbb2 : Below wr.heap.size wr x2 := (Below.refl wr.heap.size wr).drew.trans (hb2.mono (Nat.le_refl _))
           have e0 := (hbb2.cell (p := ⟨ba, oa + k * 2, none⟩) hbl).trans c0
           have e1 := (hbb2.cell (p := ⟨ba, oa + k * 2 + 1, none⟩) hbl).trans c1)
        | fail)
      all_goals
        have HO4 : Hid (Owns x3 w.heap.size (some ⟨g3, 0, none⟩) (6 * (k + 1)) cc3 (putS (l.take (k + 1)))) := by
          show Owns _ _ _ _ _ _
          rw [HF.out, show 6 * (k + 1) = K6 + 6 by have := HK6.out; omega, setB, ← List.append_assoc]
          exact ho3.low (Nat.le_trans HB.out.size hbb2.size)
        have HB4 : Hid (Below w.heap.size w x3) := HB.out.trans (hbb3.mono HB.out.size)
        clear hbb2 hbb3 hb2 hb3 ho2 ho3 d0 d1 e0 e1 c0 c1 HO HB
        go_wp2_with fail
        go_roundw
        case rel => exact ⟨k + 1, g3, cc3, by omega, by go_num, by rw [show 6 * (k + 1) = K6 + 6 by have := HK6.out; omega], HO4, HB4⟩
        case measure => simp [intOf]; omega
    · have hkl : k = len := by omega
      subst hkl
      go_wp2_with fail
      go_ret
      have hll := HX.out.1
      have h := HO.out
      rw [List.take_of_length_le (by omega)] at h
      exact ⟨_, _, rfl, h, HB.out⟩

end Go.Proofs.Ytghakpcagacdaam
