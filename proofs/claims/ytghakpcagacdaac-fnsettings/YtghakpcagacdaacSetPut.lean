/- What the program's PutSettings answers: two bytes and four of each setting, in memory of its own; nothing that was there is written. For lists of at most 2^20 settings. -/
import Derived.Test.YtghakpcagacdaacSetRow
import Derived.Test.YtghakpcagacdaacPutTo
import Derived.Test.YtghakpcagacdaacBox4
import Derived.Test.YtghakpcagacdaacHimStep
import Derived.Deep.RegionHeld3
namespace Go.Proofs.Ytghakpcagacdaac
open Go.RowKit
set_option linter.unusedVariables false

/-- The bytes of one setting. -/
def setB (s : Sett) : List Int := pbl s.1.toNat 2 2 ++ pbl s.2.toNat 4 4
/-- The bytes of settings. -/
def putS (l : List Sett) : List Int := l.flatMap setB

theorem setB_len (s : Sett) : (setB s).length = 6 := by simp [setB, pbl_len]
theorem setB_range (s : Sett) : ∀ x ∈ setB s, 0 ≤ x ∧ x ≤ 255 := by
  intro x hx
  rcases List.mem_append.1 hx with hx | hx <;> exact pbl_range _ _ _ x hx
theorem putS_len (l : List Sett) : (putS l).length = 6 * l.length := by
  induction l with
  | nil => rfl
  | cons s l ih =>
    have e : putS (s :: l) = setB s ++ putS l := rfl
    rw [e, List.length_append, ih, setB_len, List.length_cons]
    omega
theorem putS_range (l : List Sett) : ∀ x ∈ putS l, 0 ≤ x ∧ x ≤ 255 := by
  intro x hx
  obtain ⟨s, _, hs⟩ := List.mem_flatMap.1 hx
  exact setB_range s x hs
theorem putS_step (l : List Sett) (k : Nat) (s : Sett) (h : l[k]? = some s) : putS (l.take (k + 1)) = putS (l.take k) ++ setB s := by
  rw [List.take_add_one, h]
  simp [putS]

set_option maxRecDepth 10000 in
set_option maxHeartbeats 1600000 in
theorem implSetB_any (a : Option Addr) (len cap : Nat) (l : List Sett) (w : World) (hx : Setts w a len l) (hl : len ≤ 1048576) :
    Calls Try.prog 64 #[.slice a len cap] w fun e w' => ∃ a' cap', e = .returned (.slice a' (6 * len) cap') ∧ Owns w' w.heap.size a' (6 * len) cap' (putS l) ∧ Below w.heap.size w w' := by
  obtain ⟨i0, hi, hz0, hz1, hz2⟩ := info_parts Try.info5
  have HX : Hid (Setts w a len l) := hx
  clear hx
  have h6 : (6 : Int) * (len : Int) = ((6 * len : Nat) : Int) := by omega
  obtain ⟨L6, hL6⟩ : ∃ L6, 6 * len = L6 := ⟨_, rfl⟩
  rw [hL6] at h6
  have HL6 : Hid (6 * len = L6) := hL6
  have hL6b : L6 ≤ 6291456 := by omega
  rw [hL6]
  clear hL6
  go_enter Try.func64, Try.ntmps64
  go_wp2_with (at_make; refine wpList_make_own _ rfl _ _ 22 rfl w.heap.size 5 i0 (.int .u8 0) 1 Try.underlying22 hi hz0 hz1 _ _ _ L6 rfl rfl rfl (by rw [hz2]; omega) (by unfold maxLen; omega) (Nat.le_refl _) ?_; intro w1 hown1 hgrow1; refine Hid.out ?_)
  refine hidden ?_
  have HO1 : Hid (w1.ownsRow w.heap.size 5 1 (.slice (some ⟨w.heap.size, 0, none⟩) 0 L6) (6 * 0) ((putS (l.take 0)).map (Value.int .u8))) := hown1
  have HB1 : Hid (Below w.heap.size w w1) := (Below.refl _ _).grown hgrow1 (Nat.le_refl _) (by simp)
  clear hown1 hgrow1 h6
  go_wp2_with fail
  go_loopw [3, 12] (fun v i wr => ∃ k : Nat, k ≤ len ∧ i = .int .i64 k ∧ Hid (wr.ownsRow w.heap.size 5 1 v (6 * k) ((putS (l.take k)).map (Value.int .u8))) ∧ Hid (Below w.heap.size w wr)) (fun _ i _ => len - (intOf i).toNat)
  case atStart => exact ⟨0, Nat.zero_le _, rfl, HO1, HB1⟩
  case round =>
    clear HO1 HB1
    obtain ⟨k, hk, rfl, HO, HB⟩ := hrel
    by_cases hlt : k < len
    · obtain ⟨ba, oa, x, y, rfl, hba, hfa, ha0, ha1, hxb, hyb⟩ := HX.out.at hlt
      have ga0 : wr.cell? ⟨ba, oa + k * 2, none⟩ = some (.int .i64 x) := (HB.out.cell (p := ⟨ba, _, none⟩) hba).trans ha0
      have ga1 : wr.cell? ⟨ba, oa + k * 2 + 1, none⟩ = some (.int .i64 y) := (HB.out.cell (p := ⟨ba, _, none⟩) hba).trans ha1
      have HF : Hid (putS (l.take (k + 1)) = putS (l.take k) ++ setB (x, y)) := putS_step l k (x, y) hfa
      have HXb : Hid (x ≤ 9223372036854775807) := hxb.2
      have HYb : Hid (y ≤ 9223372036854775807) := hyb.2
      clear hfa ha0 ha1 hxb hyb
      have hki : (k : Int) < (len : Int) := by omega
      have hk0 : (0 : Int) ≤ (k : Int) := by omega
      obtain ⟨x1, hx1⟩ : ∃ x1, wr.alloc (.cells #[.int .i64 x, .int .i64 y] 60) = x1 := ⟨_, rfl⟩
      have hb1 : Below wr.heap.size wr x1 := by rw [← hx1]; exact (Below.refl _ _).alloc (Nat.le_refl _) _
      have HO1 : Hid (x1.ownsRow w.heap.size 5 1 u3 (6 * k) ((putS (l.take k)).map (Value.int .u8))) := own_below HO.out hb1
      have HB1 : Hid (Below w.heap.size w x1) := HB.out.trans (hb1.mono HB.out.size)
      have c0 : x1.cell? ⟨wr.heap.size, 0, none⟩ = some (.int .i64 x) := by rw [← hx1]; simp [go_sem]
      have c1 : x1.cell? ⟨wr.heap.size, 1, none⟩ = some (.int .i64 y) := by rw [← hx1]; simp [go_sem]
      have hbl : wr.heap.size < x1.heap.size := by rw [← hx1]; simp
      have HLt : Hid (∀ q, u3.ownBlock = some q → w.heap.size ≤ q ∧ q < wr.heap.size) := fun q hq => HO.out.lt q hq
      clear hb1 HO HB
      go_wp2_with fail
      clear hx1
      generalize wr.heap.size = bs at *
      go_region_held3 (fun W => W.cell? ⟨bs, 0, none⟩ = some (.int .i64 x) ∧ W.cell? ⟨bs, 1, none⟩ = some (.int .i64 y)) (refine ⟨?_, ?_⟩ <;> assumption) (first
        | (go_at_call 65; refine (implPut_to _ 2 cc2 4 6 y _ _ (ho2.seg.below (Below.refl _ _)) (by omega) HYb.out (by omega) (by omega) rfl).mono ?_; rintro e x3 ⟨g3, cc3, rfl, ho3, hb3⟩
           have hbb3 : Below x1.heap.size x1 x3 := hbb2.trans (hb3.mono hbb2.size)
           have d0 := (hbb3.cell (p := ⟨bs, 0, none⟩) hbl).trans c0
           have d1 := (hbb3.cell (p := ⟨bs, 1, none⟩) hbl).trans c1)
        | (go_at_call 65; refine (implPut_to none 0 0 2 2 x [] _ ⟨rfl, by simp, .inl rfl⟩ (by omega) HXb.out (by omega) (by omega) rfl).mono ?_; rintro e x2 ⟨g2, cc2, rfl, ho2, hb2⟩
           have hbb2 : Below x1.heap.size x1 x2 := (Below.refl x1.heap.size x1).drew.trans (hb2.mono (Nat.le_refl _))
           have e0 := (hbb2.cell (p := ⟨bs, 0, none⟩) hbl).trans c0
           have e1 := (hbb2.cell (p := ⟨bs, 1, none⟩) hbl).trans c1)
        | (refine step_append_own rfl (.tmp 16) (.tmp 22) 22 rfl w.heap.size 5 i0 (.int .u8 0) 1 1 Try.underlying22 hi hz0 hz1 hz2 rfl (by decide) u3 (6 * k) _ rfl (own_below HO1.out hbb3) ⟨g3, 0, none⟩ 6 cc3 ((setB (x, y)).map (Value.int .u8)) rfl (by simp [setB_len]) (cells_ints ho3.seg) (ints_one _) (by unfold maxLen; omega) (by omega) (Nat.le_trans HB1.out.size hbb3.size) ?_; intro v4 x4 hown4 hgrow4
           have hblk : x4.heap[bs]? = x3.heap[bs]? := hgrow4.block bs (Nat.lt_of_lt_of_le hbl hbb3.size) (fun hq => (by have := HLt.out bs hq.symm; omega))
           have f0 := (World.cell?_of_block (w := x3) (a := ⟨bs, 0, none⟩) hblk).trans d0
           have f1 := (World.cell?_of_block (w := x3) (a := ⟨bs, 1, none⟩) hblk).trans d1)
        | fail)
      all_goals
        have HO4 : Hid (x4.ownsRow w.heap.size 5 1 v4 (6 * (k + 1)) ((putS (l.take (k + 1))).map (Value.int .u8))) := by
          show World.ownsRow _ _ _ _ _ _ _
          rw [HF.out, List.map_append, show 6 * (k + 1) = 6 * k + 6 by omega]
          exact hown4
        have HB4 : Hid (Below w.heap.size w x4) := (HB1.out.trans (hbb3.mono HB1.out.size)).grown hgrow4 (Nat.le_trans HB1.out.size hbb3.size) (fun q hq => (HO1.out.lt q hq).1)
        clear hown4 hgrow4 hbb2 hbb3 hb2 hb3 ho2 ho3 d0 d1 e0 e1 c0 c1 f0 f1 hblk HO1 HB1 HLt
        go_wp2_with fail
        go_roundw
        case rel => exact ⟨k + 1, by omega, by go_num, HO4, HB4⟩
        case measure => simp [intOf]; omega
    · have hkl : k = len := by omega
      subst hkl
      obtain ⟨a', cap', rfl⟩ := shape_of_owns HO.out
      go_wp2_with fail
      go_ret
      have hll := HX.out.1
      have h := HO.out
      rw [List.take_of_length_le (by omega)] at h
      rw [HL6.out] at h ⊢
      exact ⟨_, _, rfl, ⟨h, putS_range l⟩, HB.out⟩

set_option maxHeartbeats 400000 in
theorem implPutS_any (a : Option Addr) (len cap : Nat) (l : List Sett) (w : World) (hx : Setts w a len l) (hl : len ≤ 1048576) :
    Calls Try.prog 30 #[.slice a len cap] w fun e w' => ∃ a' cap', e = .returned (.slice a' (6 * len) cap') ∧ Owns w' w.heap.size a' (6 * len) cap' (putS l) ∧ Below w.heap.size w w' := by
  have HC : Hid (Calls Try.prog 64 #[.slice a len cap] w fun e w' => ∃ a' cap', e = .returned (.slice a' (6 * len) cap') ∧ Owns w' w.heap.size a' (6 * len) cap' (putS l) ∧ Below w.heap.size w w') := implSetB_any a len cap l w hx hl
  clear hx
  go_enter Try.func30, Try.ntmps30
  go_wp2_with fail
  refine HC.out.mono ?_
  rintro e w1 ⟨a', cap', rfl, ho, hb⟩
  have HO : Hid (Owns w1 w.heap.size a' (6 * len) cap' (putS l)) := ho
  have HB : Hid (Below w.heap.size w w1) := hb
  clear ho hb
  go_wp2_with fail
  go_ret
  exact ⟨_, _, rfl, HO.out, HB.out⟩

end Go.Proofs.Ytghakpcagacdaac
