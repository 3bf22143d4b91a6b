/- The library's iterator Chunk over bytes: piece by piece. -/
import Derived.RangeFuncBound
import Derived.RangeFuncCalls
import Derived.Shelf.Abstract
import Derived.Shelf.RegionOpen
import Derived.OwnWalkIn
import Derived.TacticsInMore
import Derived.LoopNIn
import Derived.LoopIn
import Derived.Test.YtiigdcpjelbdjaaGreatDoorM43
import Derived.Test.YtiigdcpjelbdjaaGreatDoorM01
namespace Go.Proofs.YtiigdcpjelbdjaaGreatDoor
open Go.RowKit Go.Shelf
set_option linter.unusedVariables false
attribute [local go_sem] Oper.semAt_some

/-- Where the piece k begins. -/
def pcAt (o m k : Nat) : Nat := o + k * m

/-- How long the piece k is. -/
def pcLen (m L k : Nat) : Nat := min m (L - k * m)

/-- What a round is handed: the piece k. -/
abbrev encC (b o m L k : Nat) : Array Value := #[.slice (some ⟨b, pcAt o m k, none⟩) (pcLen m L k) (pcLen m L k)]

set_option maxRecDepth 100000 in
set_option maxHeartbeats 1000000 in
theorem chunk_iter (n B Bs Bn b o L C m : Nat) (hn : 1 ≤ n) (hL : L ≤ 1048576) (hLC : L ≤ C) (hm1 : 1 ≤ m) (hm2 : m ≤ 1000) (I0 I1 : Nat → World → Prop) (Ix : Code → Nat → World → Prop) (Ie : Nat → World → Prop) (Ib : World → Prop)
    (hb : ∀ W, Ib W → Boxed W Bs 22 (.slice (some ⟨b, o, none⟩) L C) ∧ Boxed W Bn 3 (.int .i64 m) ∧ (0 < L → I0 0 W) ∧ (¬ 0 < L → Ie 0 W))
    (hd : ∀ k W, I0 k W → I0 k W.drew)
    (h0 : ∀ k W, I0 k W → Boxed W Bs 22 (.slice (some ⟨b, o, none⟩) L C) ∧ Boxed W Bn 3 (.int .i64 m))
    (h1 : ∀ k W, I1 k W → Boxed W Bs 22 (.slice (some ⟨b, o, none⟩) L C) ∧ Boxed W Bn 3 (.int .i64 m) ∧ ((k + 1) * m < L → I0 (k + 1) W) ∧ (¬ (k + 1) * m < L → Ie 0 W)) :
    Iter Fence.wide n Tryz.prog B 73 #[.pointer (some ⟨Bs, 0, none⟩), .pointer (some ⟨Bn, 0, none⟩)] (encC b o m L) I0 I1 Ix Ie Ib := by
  intro l L0 L1 k0 k1 hY W hi hl0
  obtain ⟨hbs, hbn, hi0, hi1⟩ := hb W hi
  clear hb hi
  refine callsIn_of_wp Tryz.func73 rfl trivial ?_ rfl
  simp only [Tryz.ntmps73, List.size_toArray, List.length_cons, List.length_nil, Nat.reduceAdd, Nat.reduceSub, Array.replicate_succ, Array.replicate_zero, List.push_toArray, List.append_toArray, List.nil_append, List.cons_append]
  gi_wp2
  gi_loopw [4] (fun i wr => ∃ k F : Nat, i = .int .i64 (F : Int) ∧ F ≤ L + 1000 ∧ Hid (F = k * m) ∧ Hid (Boxed wr Bs 22 (.slice (some ⟨b, o, none⟩) L C) ∧ Boxed wr Bn 3 (.int .i64 m)) ∧ Hid ((F < L → I0 k wr) ∧ (¬ F < L → Ie 0 wr) ∧ L0 wr)) (fun i _ => L + 1000 - (intOf i).toNat)
  case atStart => exact ⟨0, 0, rfl, by omega, by show _ = _; omega, ⟨hbs, hbn⟩, hi0, hi1, hl0⟩
  case round =>
    clear hi0 hi1 hl0 hbs hbn
    obtain ⟨k, F, rfl, hFb, HF, HBx, HI⟩ := hrel
    have hFi : (F : Int) ≤ 1049576 := by omega
    have c1 := HBx.out.1.cell
    have c2 := HBx.out.2.cell
    by_cases hlt : F < L
    · have hs := HI.out.1 hlt
      have hlL := HI.out.2.2
      obtain ⟨fn, tmps, assign, body, hy, hR⟩ := hY _ wr.drew (hd _ _ hs) (k0 _ _ hlL ⟨Nat.le_refl _, fun _ _ _ h _ => h⟩)
      obtain ⟨e, he⟩ : ∃ e : Nat, min m (L - F) = e := ⟨_, rfl⟩
      have he1 : 1 ≤ e ∧ e ≤ 1000 ∧ F + e ≤ L := by omega
      have hx1 : pcAt o m k = o + F := by rw [pcAt, HF.out]
      have hx2 : pcLen m L k = e := by rw [pcLen, ← HF.out, he]
      simp only [encC, hx1, hx2] at hy
      have HS := (show Hid _ from hs)
      have HLL := (show Hid _ from hlL)
      have HY1 : Hid ((k + 1) * m = F + m) := by show _ = _; rw [HF.out, Nat.add_mul, Nat.one_mul]
      have qn : ∀ w : World, (Builtin.min_ #[3, 3] 3 #[.int .i64 m, .int .i64 ((L - F : Nat) : Int)]).run Tryz.prog w = .ok (.int .i64 e) w := fun w => by
        rw [run_min_int2]
        congr 2
        rw [← he]
        split <;> omega
      have hFL : (F : Int) < (L : Int) := by omega
      have hFC : (F : Int) ≤ (C : Int) := by omega
      have hCF : ¬ C = F := by omega
      have hei : (F : Int) + (e : Int) ≤ (C : Int) := by omega
      have hen : ((F + e : Nat) : Int) = (F : Int) + (e : Int) := by omega
      have hFe : F + e - F = e := by omega
      have hmx : Tryz.prog.follows .mixedOrders = true := by kernel_rfl
      clear hs hlL hx1 hx2 he
      gi_wp2
      gi_region_with_o fail
      all_goals
        gi_wp2
        refine hR.mono ?_
        clear hR hy qn c1 c2 hCF
        rintro e3 W3 (⟨rfl, h3, l3⟩ | ⟨rfl, c, h3, l3⟩)
        · obtain ⟨j1, j2, j3, j4⟩ := h1 _ _ h3
          rw [HY1.out] at j3 j4
          have c1 := j1.cell
          have c2 := j2.cell
          have HJ : Hid ((F + m < L → I0 (k + 1) W3) ∧ (¬ F + m < L → Ie 0 W3) ∧ L0 W3) := ⟨j3, j4, l3⟩
          have HX : Hid (Boxed W3 Bs 22 (.slice (some ⟨b, o, none⟩) L C) ∧ Boxed W3 Bn 3 (.int .i64 m)) := ⟨j1, j2⟩
          clear j1 j2 j3 j4 h3 l3
          gi_wp2
          go_roundw
          case rel => exact ⟨k + 1, F + m, by go_num, by omega, HY1.out.symm, HX, HJ⟩
          case measure => simp [intOf]; omega
        · gi_wp2
          refine bodyPost_ret (results_none rfl _ _ _) rfl ?_
          exact ⟨⟨_, rfl⟩, .inr ⟨c, _, h3, l3⟩⟩
    · have hnl : ¬ (F : Int) < (L : Int) := by omega
      have he := HI.out.2.1 hlt
      have hlL := HI.out.2.2
      gi_wp2
      go_end0
      exact ⟨⟨_, rfl⟩, .inl ⟨⟨_, he⟩, hlL⟩⟩

set_option maxHeartbeats 400000 in
theorem chunk_any (a : Option Addr) (len cap m : Nat) (w : World) (n : Nat) (hm : 1 ≤ m) :
    CallsIn Fence.wide n Tryz.prog 45 #[.slice a len cap, .int .i64 m] w fun e w' => e = .returned (.func (.func 73) #[] #[.pointer (some ⟨w.heap.size, 0, none⟩), .pointer (some ⟨w.heap.size + 1, 0, none⟩)]) ∧ w' = (w.alloc (.cells #[.slice a len cap] 22)).alloc (.cells #[.int .i64 m] 3) := by
  have hmi : ¬ (m : Int) < 1 := by omega
  refine callsIn_of_wp Tryz.func45 rfl trivial ?_ rfl
  simp only [Tryz.ntmps45, List.size_toArray, List.length_cons, List.length_nil, Nat.reduceAdd, Nat.reduceSub, Array.replicate_succ, Array.replicate_zero, List.push_toArray, List.append_toArray, List.nil_append, List.cons_append]
  gi_wp2
  go_ret
  exact ⟨rfl, rfl⟩

end Go.Proofs.YtiigdcpjelbdjaaGreatDoor
