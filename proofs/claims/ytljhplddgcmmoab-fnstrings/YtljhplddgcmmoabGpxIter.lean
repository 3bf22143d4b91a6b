/- The program's iterator of what each group adds: it ends by itself where the last group is not there. -/
import Derived.RangeFuncBound
import Derived.RangeFuncCalls
import Derived.Shelf.Abstract
import Derived.Shelf.RegionOpen
import Derived.OwnWalkIn
import Derived.TacticsInMore
import Derived.LoopNIn
import Derived.LoopIn
import Derived.Test.YtljhplddgcmmoabPfxBits
import Derived.Test.YtljhplddgcmmoabTurns
import Derived.Test.YtljhplddgcmmoabGpxSum
namespace Go.Proofs.Ytljhplddgcmmoab
open Go.RowKit Go.Shelf
set_option linter.unusedVariables false
attribute [local go_sem] Oper.semAt_some

/-- What group k adds, and whether others follow. -/
def partOf (zs : List Int) (k : Nat) : Nat := (zs.getD k 0).toNat % 128 * 128 ^ k
def moreOf (zs : List Int) (k : Nat) : Bool := decide (128 ≤ zs.getD k 0)

/-- What a round is handed. -/
abbrev encP (zs : List Int) (s : Nat × Nat) : Array Value := #[.int .i64 (partOf zs s.1 : Int), .bool (moreOf zs s.1)]

set_option maxRecDepth 100000 in
theorem part_tab : ∀ C : Nat, C < 256 → ∀ k : Nat, k < 4 → ((C % 128 * 128 ^ k : Nat) : Int) = wrap64 (wrap64 (bits .and .u8 (C : Int) 127) * 2 ^ (7 * k)) := by decide +kernel

set_option maxRecDepth 100000 in
theorem more_tab : ∀ C : Nat, C < 256 → decide (128 ≤ (C : Int)) = (bits .and .u8 (C : Int) 128 != 0) := by decide +kernel

set_option maxRecDepth 100000 in
set_option maxHeartbeats 1000000 in
theorem parts_iter (n B Bb b off len cap : Nat) (zs : List Int) (hn : 1 ≤ n) (hl : len ≤ 1099511627776) (hzl : zs.length = len) (I0 I1 : Nat × Nat → World → Prop) (Ix : Code → Nat × Nat → World → Prop) (Ie : Nat × Nat → World → Prop) (Ib : World → Prop)
    (hb : ∀ W, Ib W → Boxed W Bb 22 (.slice (some ⟨b, off, none⟩) len cap) ∧ len ≤ cap ∧ (0 < min len 4 → I0 (0, 0) W) ∧ (min len 4 = 0 → Ie (0, 0) W))
    (h0 : ∀ s W, I0 s W → s.1 < min len 4 ∧ Seg W (some ⟨b, off, none⟩) len zs)
    (h1 : ∀ s W, I1 s W → (s.1 + 1 < min len 4 → ∃ A, I0 (s.1 + 1, A) W) ∧ (s.1 + 1 = min len 4 → ∃ A, Ie (s.1 + 1, A) W)) :
    Iter Fence.wide n Try.prog B 92 #[.pointer (some ⟨Bb, 0, none⟩)] (encP zs) I0 I1 Ix Ie Ib := by
  intro l L0 L1 k0 k1 hY W hi hl0
  obtain ⟨hbx, hcap, hi0, hi1⟩ := hb W hi
  have hc := hbx.cell
  obtain ⟨mn, hmn⟩ : ∃ mn, min len 4 = mn := ⟨_, rfl⟩
  have qn : ∀ w : World, (Builtin.min_ #[3, 3] 3 #[.int .i64 len, .int .i64 4]).run Try.prog w = .ok (.int .i64 mn) w := fun w => by
    rw [run_min_int2]
    have : (if (4 : Int) < (len : Int) then (4 : Int) else (len : Int)) = (mn : Int) := by split <;> omega
    rw [this]
  have hmc : mn ≤ cap := by omega
  have hmi : (mn : Int) ≤ (cap : Int) := by omega
  have hm4 : mn ≤ 4 := by omega
  rw [hmn] at h0 h1 hi0 hi1
  have HMN : Hid (min len 4 = mn) := hmn
  clear hb hi hbx hmn
  refine callsIn_of_wp Try.func92 rfl trivial ?_ rfl
  simp only [Try.ntmps92, List.size_toArray, List.length_cons, List.length_nil, Nat.reduceAdd, Nat.reduceSub, Array.replicate_succ, Array.replicate_zero, List.push_toArray, List.append_toArray, List.nil_append, List.cons_append]
  gi_wp2
  gi_loopw [11] (fun i wr => ∃ k : Nat, k ≤ mn ∧ i = .int .i64 k ∧ (k < mn → ∃ A, I0 (k, A) wr) ∧ (k = mn → ∃ A, Ie (k, A) wr) ∧ L0 wr) (fun i _ => mn - (intOf i).toNat)
  case atStart => exact ⟨0, Nat.zero_le _, rfl, fun h => ⟨0, hi0 h⟩, fun h => ⟨0, hi1 h.symm⟩, hl0⟩
  case round =>
    clear hi0 hi1 hl0 qn hc
    obtain ⟨k, hk, rfl, hI, hE, hL⟩ := hrel
    by_cases hlt : k < mn
    · obtain ⟨A, hs⟩ := hI hlt
      obtain ⟨_, hseg⟩ := h0 _ _ hs
      obtain ⟨fn, tmps, assign, body, hy, hR⟩ := hY _ wr hs hL
      have hlen : k < len := by have := HMN.out; omega
      have hcell : wr.cell? ⟨b, off + k, none⟩ = some (.int .u8 (zs.getD k 0)) := by
        rcases hseg.2.2 with h | ⟨b', off', hbo, _, h⟩
        · omega
        · cases hbo
          exact h k hlen
      have hrg := hseg.range k
      obtain ⟨C, hC⟩ := Int.eq_ofNat_of_zero_le hrg.1
      simp only [encP, partOf, moreOf] at hy
      rw [hC, Int.toNat_natCast] at hy
      rw [hC] at hcell hrg
      have hc0 : (0 : Int) ≤ (C : Int) := hrg.1
      have hc1 : (C : Int) ≤ 255 := hrg.2
      clear hseg hrg
      rw [part_tab C (by omega) k (by omega), more_tab C (by omega)] at hy
      gi_wp2
      refine hR.mono ?_
      clear hR hy hcell hs hL hI hE
      rintro e W3 (⟨rfl, h3, l3⟩ | ⟨rfl, c, h3, l3⟩)
      · obtain ⟨j0, j1⟩ := h1 _ _ h3
        dsimp only at j0 j1
        gi_wp2
        go_roundw
        case rel => exact ⟨k + 1, by omega, by simp, j0, j1, l3⟩
        case measure => simp [intOf]; omega
      · gi_wp2
        refine bodyPost_ret (results_none rfl _ _ _) rfl ?_
        exact ⟨⟨_, rfl⟩, .inr ⟨c, _, h3, l3⟩⟩
    · obtain rfl : k = mn := by omega
      obtain ⟨A, he⟩ := hE rfl
      gi_wp2
      go_end0
      exact ⟨⟨_, rfl⟩, .inl ⟨⟨_, _, he⟩, hL⟩⟩

set_option maxHeartbeats 400000 in
theorem partsIn_any (a : Option Addr) (len cap : Nat) (w : World) (n : Nat) :
    CallsIn Fence.wide n Try.prog 90 #[.slice a len cap] w fun e w' => e = .returned (.func (.func 92) #[] #[.pointer (some ⟨w.heap.size, 0, none⟩)]) ∧ w' = w.alloc (.cells #[.slice a len cap] 22) := by
  refine callsIn_of_wp Try.func90 rfl trivial ?_ rfl
  simp only [Try.ntmps90, List.size_toArray, List.length_cons, List.length_nil, Nat.reduceAdd, Nat.reduceSub, Array.replicate_succ, Array.replicate_zero, List.push_toArray, List.append_toArray, List.nil_append, List.cons_append]
  gi_wp2
  go_ret
  exact ⟨rfl, rfl⟩

end Go.Proofs.Ytljhplddgcmmoab
