/- The library's iterator Backward over fields: from the last one on. -/
import Derived.RangeFuncBound
import Derived.RangeFuncCalls
import Derived.Shelf.Abstract
import Derived.Shelf.RegionOpen
import Derived.OwnWalkIn
import Derived.TacticsInMore
import Derived.LoopNIn
import Derived.LoopIn
import Derived.Test.YtcicboolbeognalTurns
import Derived.Test.YtcicboolbeognalTabOwn
import Derived.Test.YtcicboolbeognalTiny
namespace Go.Proofs.Ytcicboolbeognal
open Go.RowKit Go.Shelf
set_option linter.unusedVariables false
attribute [local go_sem] Oper.semAt_some

/-- What a round is handed: the place, and the field there. -/
abbrev encB (xs : List Fld) (k : Nat) : Array Value := #[.int .i64 (k : Int), .agg #[.string (xs.getD k (⟨#[]⟩, ⟨#[]⟩)).1, .string (xs.getD k (⟨#[]⟩, ⟨#[]⟩)).2]]

set_option maxRecDepth 100000 in
set_option maxHeartbeats 1000000 in
theorem back_iter (n B Bb : Nat) (a : Option Addr) (len cap : Nat) (xs : List Fld) (hn : 1 ≤ n) (hl : len ≤ 2097300) (hxl : xs.length = len) (I0 I1 : Nat → World → Prop) (Ix : Code → Nat → World → Prop) (Ie : Nat → World → Prop) (Ib : World → Prop)
    (hb : ∀ W, Ib W → Boxed W Bb 38 (.slice a len cap) ∧ (0 < len → I0 (len - 1) W) ∧ (len = 0 → Ie 0 W))
    (h0 : ∀ k W, I0 k W → k < len ∧ Boxed W Bb 38 (.slice a len cap) ∧ Flds W a len xs)
    (h1 : ∀ k W, I1 k W → (0 < k → I0 (k - 1) W) ∧ (k = 0 → Ie 0 W)) :
    Iter Fence.wide n Try.prog B 118 #[.pointer (some ⟨Bb, 0, none⟩)] (encB xs) I0 I1 Ix Ie Ib := by
  intro l L0 L1 k0 k1 hY W hi hl0
  obtain ⟨hbx, hi0, hi1⟩ := hb W hi
  have hc := hbx.cell
  clear hb hi hbx
  refine callsIn_of_wp Try.func118 rfl trivial ?_ rfl
  simp only [Try.ntmps118, List.size_toArray, List.length_cons, List.length_nil, Nat.reduceAdd, Nat.reduceSub, Array.replicate_succ, Array.replicate_zero, List.push_toArray, List.append_toArray, List.nil_append, List.cons_append]
  gi_wp2
  gi_loopw [3] (fun i wr => ∃ k : Nat, k ≤ len ∧ i = .int .i64 ((k : Int) - 1) ∧ (0 < k → I0 (k - 1) wr) ∧ (k = 0 → Ie 0 wr) ∧ L0 wr) (fun i _ => (intOf i + 1).toNat)
  case atStart => exact ⟨len, Nat.le_refl _, rfl, hi0, hi1, hl0⟩
  case round =>
    clear hi0 hi1 hl0 hc
    obtain ⟨k, hk, rfl, hI, hE, hL⟩ := hrel
    cases k with
    | zero =>
      have he := hE rfl
      gi_wp2
      go_end0
      exact ⟨⟨_, rfl⟩, .inl ⟨⟨_, he⟩, hL⟩⟩
    | succ j =>
      have hs := hI (Nat.succ_pos _)
      rw [Nat.add_sub_cancel] at hs
      obtain ⟨hj, hbx, hfl⟩ := h0 _ _ hs
      obtain ⟨fn, tmps, assign, body, hy, hR⟩ := hY _ wr hs hL
      obtain ⟨b, off, x, y, rfl, hb, hfx, hc0, hc1⟩ := hfl.at hj
      have hc := hbx.cell
      have ex : xs.getD j (⟨#[]⟩, ⟨#[]⟩) = (x, y) := by rw [List.getD_eq_getElem?_getD, hfx]; rfl
      simp only [encB, ex] at hy
      have hji : ((j + 1 : Nat) : Int) - 1 = (j : Int) := by omega
      have hjl : (j : Int) < (len : Int) := by omega
      rw [hji]
      clear hfl hfx hbx
      gi_wp2
      refine hR.mono ?_
      clear hR hy hc0 hc1 hc hs hL hI hE
      rintro e W3 (⟨rfl, h3, l3⟩ | ⟨rfl, c, h3, l3⟩)
      · obtain ⟨j0, j1⟩ := h1 _ _ h3
        gi_wp2
        go_roundw
        case rel => exact ⟨j, by omega, by go_num, j0, j1, l3⟩
        case measure => simp [intOf]
      · gi_wp2
        refine bodyPost_ret (results_none rfl _ _ _) rfl ?_
        exact ⟨⟨_, rfl⟩, .inr ⟨c, _, h3, l3⟩⟩

set_option maxHeartbeats 400000 in
theorem backward_any (a : Option Addr) (len cap : Nat) (w : World) (n : Nat) :
    CallsIn Fence.wide n Try.prog 105 #[.slice a len cap] w fun e w' => e = .returned (.func (.func 118) #[] #[.pointer (some ⟨w.heap.size, 0, none⟩)]) ∧ w' = w.alloc (.cells #[.slice a len cap] 38) := by
  refine callsIn_of_wp Try.func105 rfl trivial ?_ rfl
  simp only [Try.ntmps105, List.size_toArray, List.length_cons, List.length_nil, Nat.reduceAdd, Nat.reduceSub, Array.replicate_succ, Array.replicate_zero, List.push_toArray, List.append_toArray, List.nil_append, List.cons_append]
  gi_wp2
  go_ret
  exact ⟨rfl, rfl⟩

end Go.Proofs.Ytcicboolbeognal
