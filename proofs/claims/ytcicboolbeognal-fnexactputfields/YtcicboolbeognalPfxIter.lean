/- The program's iterator of groups: it keeps the number in a variable of its own, and never ends by itself. -/
import Derived.RangeFuncBound
import Derived.RangeFuncCalls
import Derived.Shelf.Abstract
import Derived.Shelf.RegionOpen
import Derived.OwnWalkIn
import Derived.TacticsInMore
import Derived.LoopNIn
import Derived.LoopIn
import Derived.Maps.AppendAt
import Derived.Test.YtcicboolbeognalPfxBits
import Derived.Test.YtcicboolbeognalTurns
namespace Go.Proofs.Ytcicboolbeognal
open Go.RowKit Go.Shelf
set_option linter.unusedVariables false
attribute [local go_sem] Oper.semAt_some

/-- The number in the box b. -/
def numAt (b : Nat) (W : World) : Nat := match W.cell? ⟨b, 0, none⟩ with | some (.int _ x) => x.toNat | _ => 0

theorem numAt_eq {W : World} {b : Nat} {k : IntKind} {x : Int} (h : W.cell? ⟨b, 0, none⟩ = some (.int k x)) : numAt b W = x.toNat := by simp [numAt, h]

/-- What a round is handed: a group of v, and whether others follow. -/
abbrev encG (s : List Int × Nat) : Array Value := #[.int .i64 ((s.2 : Int) % 128), .bool (decide (127 < (s.2 : Int)))]

set_option maxRecDepth 100000 in
set_option maxHeartbeats 1000000 in
theorem groups_iter (n B Bn : Nat) (hn : 1 ≤ n) (I0 I1 : List Int × Nat → World → Prop) (Ix : Code → List Int × Nat → World → Prop) (nxt : List Int × Nat → List Int × Nat)
    (h0 : ∀ s W, I0 s W → Boxed W Bn 3 (.int .i64 s.2) ∧ s.2 ≤ 16777216) (h1 : ∀ s W, I1 s W → Boxed W Bn 3 (.int .i64 s.2) ∧ 127 < s.2 ∧ s.2 ≤ 16777216)
    (h2 : ∀ s W, I1 s W → I0 (nxt s) (W.setCell ⟨Bn, 0, none⟩ (.int .i64 ((s.2 / 128 : Nat) : Int)))) (s0 : List Int × Nat) :
    Iter Fence.wide n Try.prog B 98 #[.pointer (some ⟨Bn, 0, none⟩)] encG I0 I1 Ix (fun _ _ => False) (I0 s0) := by
  intro l L0 L1 k0 k1 hY W hi hl
  refine callsIn_of_wp Try.func98 rfl trivial ?_ rfl
  simp only [Try.ntmps98, List.size_toArray, List.length_cons, List.length_nil, Nat.reduceAdd, Nat.reduceSub, Array.replicate_succ, Array.replicate_zero, List.push_toArray, List.append_toArray, List.nil_append, List.cons_append]
  gi_wp2
  gi_loopw [] (fun wr => ∃ s, I0 s wr ∧ L0 wr) (fun wr => numAt Bn wr)
  case atStart => exact ⟨s0, hi, hl⟩
  case round =>
    clear hi hl
    obtain ⟨⟨d, v⟩, hs, hl⟩ := hrel
    obtain ⟨hb, hv⟩ := h0 _ wr hs
    obtain ⟨fn, tmps, assign, body, hy, hR⟩ := hY _ wr hs hl
    have hc : wr.cell? ⟨Bn, 0, none⟩ = some (.int .i64 v) := hb.cell
    have hvi : (v : Int) ≤ 16777216 := by
      have : v ≤ 16777216 := hv
      omega
    simp only [encG] at hy
    rw [← i64_and127] at hy
    have hnum : numAt Bn wr = v := by rw [numAt_eq hc]; exact Int.toNat_natCast v
    have hdiv : ((v / 128 : Nat) : Int) = (v : Int) / 128 := by omega
    gi_wp2
    refine hR.mono ?_
    clear hR hy hc hb hs hl
    rintro e W3 (⟨rfl, h3, l3⟩ | ⟨rfl, c, h3, l3⟩)
    · obtain ⟨hb3, hgt, _⟩ := h1 _ _ h3
      have hc3 : W3.cell? ⟨Bn, 0, none⟩ = some (.int .i64 v) := hb3.cell
      have hf3 := hb3.frozen
      have hn3 := h2 _ _ h3
      dsimp only at hn3
      have hl3 := k0 _ _ l3 ((KeepsOthers.setCell W3 ⟨Bn, 0, none⟩ (.int .i64 ((v / 128 : Nat) : Int))).from B)
      have hcn := (hb3.set (.int .i64 ((v / 128 : Nat) : Int))).cell
      rw [hdiv] at hn3 hl3 hcn
      gi_wp2
      go_roundw
      case rel => exact ⟨_, hn3, hl3⟩
      case measure =>
        rw [hnum, numAt_eq hcn, ← hdiv, Int.toNat_natCast]
        omega
    · gi_wp2
      go_end0
      exact ⟨⟨_, rfl⟩, .inr ⟨c, _, h3, l3⟩⟩

set_option maxHeartbeats 400000 in
theorem groupsOf_any (x : Int) (w : World) (n : Nat) :
    CallsIn Fence.wide n Try.prog 75 #[.int .i64 x] w fun e w' => e = .returned (.func (.func 98) #[] #[.pointer (some ⟨w.heap.size, 0, none⟩)]) ∧ w' = w.alloc (.cells #[.int .i64 x] 3) := by
  refine callsIn_of_wp Try.func75 rfl trivial ?_ rfl
  simp only [Try.ntmps75, List.size_toArray, List.length_cons, List.length_nil, Nat.reduceAdd, Nat.reduceSub, Array.replicate_succ, Array.replicate_zero, List.push_toArray, List.append_toArray, List.nil_append, List.cons_append]
  gi_wp2
  go_ret
  exact ⟨rfl, rfl⟩

end Go.Proofs.Ytcicboolbeognal
