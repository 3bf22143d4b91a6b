/- The library's iterator Chunk over bytes: piece by piece. An append, as a step of a region that draws its order, within a round. No program in it. A region that draws its order, within a round of a loop over an iterator: walked as everywhere, its loads first. No program in it. The library's Clone of bytes: the same bytes in memory of its own. -/
import Derived.RangeFuncBound
import Derived.RangeFuncCalls
import Derived.Shelf.Abstract
import Derived.Shelf.RegionOpen
import Derived.OwnWalkIn
import Derived.TacticsInMore
import Derived.LoopNIn
import Derived.LoopIn
import Derived.Test.YtbaijmkghgnleaaGreatDoorM04
import Derived.Test.YtbaijmkghgnleaaGreatDoorM01
import Derived.OrdersIn
import Derived.WalkKit
import Derived.Deep.RegionHeld3
import Derived.Lib.SliceRun
namespace Go.Proofs.YtbaijmkghgnleaaGreatDoor
open Go.RowKit Go.Shelf
set_option linter.unusedVariables false
attribute [local go_sem] Oper.semAt_some

/-- Where the piece k begins. -/
def pcAt (o m k : Nat) : Nat := o + k * m

/-- How long the piece k is. -/
def pcLen (m L k : Nat) : Nat := min m (L - k * m)

/-- What a round is handed: the piece k. -/
abbrev encC (b o m L k : Nat) : Array Value := #[.slice (some ⟨b, pcAt o m k, none⟩) (pcLen m L k) (pcLen m L k)]

set_option maxRecDepth 100000 in
set_option maxHeartbeats 1000000 in
theorem chunk_iter (n B Bs Bn b o L C m : Nat) (hn : 1 ≤ n) (hL : L ≤ 1048576) (hLC : L ≤ C) (hm1 : 1 ≤ m) (hm2 : m ≤ 1000) (I0 I1 : Nat → World → Prop) (Ix : Code → Nat → World → Prop) (Ie : Nat → World → Prop) (Ib : World → Prop)
    (hb : ∀ W, Ib W → Boxed W Bs 27 (.slice (some ⟨b, o, none⟩) L C) ∧ Boxed W Bn 3 (.int .i64 m) ∧ (0 < L → I0 0 W) ∧ (¬ 0 < L → Ie 0 W))
    (hd : ∀ k W, I0 k W → I0 k W.drew)
    (h0 : ∀ k W, I0 k W → Boxed W Bs 27 (.slice (some ⟨b, o, none⟩) L C) ∧ Boxed W Bn 3 (.int .i64 m))
    (h1 : ∀ k W, I1 k W → Boxed W Bs 27 (.slice (some ⟨b, o, none⟩) L C) ∧ Boxed W Bn 3 (.int .i64 m) ∧ ((k + 1) * m < L → I0 (k + 1) W) ∧ (¬ (k + 1) * m < L → Ie 0 W)) :
    Iter Fence.wide n Tryz.prog B 77 #[.pointer (some ⟨Bs, 0, none⟩), .pointer (some ⟨Bn, 0, none⟩)] (encC b o m L) I0 I1 Ix Ie Ib := by
  intro l L0 L1 k0 k1 hY W hi hl0
  obtain ⟨hbs, hbn, hi0, hi1⟩ := hb W hi
  clear hb hi
  refine callsIn_of_wp Tryz.func77 rfl trivial ?_ rfl
  simp only [Tryz.ntmps77, List.size_toArray, List.length_cons, List.length_nil, Nat.reduceAdd, Nat.reduceSub, Array.replicate_succ, Array.replicate_zero, List.push_toArray, List.append_toArray, List.nil_append, List.cons_append]
  gi_wp2
  gi_loopw [4] (fun i wr => ∃ k F : Nat, i = .int .i64 (F : Int) ∧ F ≤ L + 1000 ∧ Hid (F = k * m) ∧ Hid (Boxed wr Bs 27 (.slice (some ⟨b, o, none⟩) L C) ∧ Boxed wr Bn 3 (.int .i64 m)) ∧ Hid ((F < L → I0 k wr) ∧ (¬ F < L → Ie 0 wr) ∧ L0 wr)) (fun i _ => L + 1000 - (intOf i).toNat)
  case atStart => exact ⟨0, 0, rfl, by omega, by show _ = _; omega, ⟨hbs, hbn⟩, hi0, hi1, hl0⟩
  case round =>
    clear hi0 hi1 hl0 hbs hbn
    obtain ⟨k, F, rfl, hFb, HF, HBx, HI⟩ := hrel
    have hFi : (F : Int) ≤ 1049576 := by omega
    have c1 := HBx.out.1.cell
    have c2 := HBx.out.2.cell
    by_cases hlt : F < L
    · have hs := HI.out.1 hlt
      have hlL := HI.out.2.2
      obtain ⟨fn, tmps, assign, body, hy, hR⟩ := hY _ wr.drew (hd _ _ hs) (k0 _ _ hlL ⟨Nat.le_refl _, fun _ _ _ h _ => h⟩)
      obtain ⟨e, he⟩ : ∃ e : Nat, min m (L - F) = e := ⟨_, rfl⟩
      have he1 : 1 ≤ e ∧ e ≤ 1000 ∧ F + e ≤ L := by omega
      have hx1 : pcAt o m k = o + F := by rw [pcAt, HF.out]
      have hx2 : pcLen m L k = e := by rw [pcLen, ← HF.out, he]
      simp only [encC, hx1, hx2] at hy
      have HS := (show Hid _ from hs)
      have HLL := (show Hid _ from hlL)
      have HY1 : Hid ((k + 1) * m = F + m) := by show _ = _; rw [HF.out, Nat.add_mul, Nat.one_mul]
      have qn : ∀ w : World, (Builtin.min_ #[3, 3] 3 #[.int .i64 m, .int .i64 ((L - F : Nat) : Int)]).run Tryz.prog w = .ok (.int .i64 e) w := fun w => by
        rw [run_min_int2]
        congr 2
        rw [← he]
        split <;> omega
      have hFL : (F : Int) < (L : Int) := by omega
      have hFC : (F : Int) ≤ (C : Int) := by omega
      have hCF : ¬ C = F := by omega
      have hei : (F : Int) + (e : Int) ≤ (C : Int) := by omega
      have hen : ((F + e : Nat) : Int) = (F : Int) + (e : Int) := by omega
      have hFe : F + e - F = e := by omega
      have hmx : Tryz.prog.follows .mixedOrders = true := by kernel_rfl
      clear hs hlL hx1 hx2 he
      gi_wp2
      gi_region_with_o fail
      all_goals
        gi_wp2
        refine hR.mono ?_
        clear hR hy qn c1 c2 hCF
        rintro e3 W3 (⟨rfl, h3, l3⟩ | ⟨rfl, c, h3, l3⟩)
        · obtain ⟨j1, j2, j3, j4⟩ := h1 _ _ h3
          rw [HY1.out] at j3 j4
          have c1 := j1.cell
          have c2 := j2.cell
          have HJ : Hid ((F + m < L → I0 (k + 1) W3) ∧ (¬ F + m < L → Ie 0 W3) ∧ L0 W3) := ⟨j3, j4, l3⟩
          have HX : Hid (Boxed W3 Bs 27 (.slice (some ⟨b, o, none⟩) L C) ∧ Boxed W3 Bn 3 (.int .i64 m)) := ⟨j1, j2⟩
          clear j1 j2 j3 j4 h3 l3
          gi_wp2
          go_roundw
          case rel => exact ⟨k + 1, F + m, by go_num, by omega, HY1.out.symm, HX, HJ⟩
          case measure => simp [intOf]; omega
        · gi_wp2
          refine bodyPost_ret (results_none rfl _ _ _) rfl ?_
          exact ⟨⟨_, rfl⟩, .inr ⟨c, _, h3, l3⟩⟩
    · have hnl : ¬ (F : Int) < (L : Int) := by omega
      have he := HI.out.2.1 hlt
      have hlL := HI.out.2.2
      gi_wp2
      go_end0
      exact ⟨⟨_, rfl⟩, .inl ⟨⟨_, he⟩, hlL⟩⟩

set_option maxHeartbeats 400000 in
theorem chunk_any (a : Option Addr) (len cap m : Nat) (w : World) (n : Nat) (hm : 1 ≤ m) :
    CallsIn Fence.wide n Tryz.prog 61 #[.slice a len cap, .int .i64 m] w fun e w' => e = .returned (.func (.func 77) #[] #[.pointer (some ⟨w.heap.size, 0, none⟩), .pointer (some ⟨w.heap.size + 1, 0, none⟩)]) ∧ w' = (w.alloc (.cells #[.slice a len cap] 27)).alloc (.cells #[.int .i64 m] 3) := by
  have hmi : ¬ (m : Int) < 1 := by omega
  refine callsIn_of_wp Tryz.func61 rfl trivial ?_ rfl
  simp only [Tryz.ntmps61, List.size_toArray, List.length_cons, List.length_nil, Nat.reduceAdd, Nat.reduceSub, Array.replicate_succ, Array.replicate_zero, List.push_toArray, List.append_toArray, List.nil_append, List.cons_append]
  gi_wp2
  go_ret
  exact ⟨rfl, rfl⟩

end Go.Proofs.YtbaijmkghgnleaaGreatDoor

namespace Go.Proofs.YtbaijmkghgnleaaGreatDoor
open Go.RowKit
set_option linter.unusedVariables false

theorem stepIn_append {F : Fence} {n : Nat} {P : Program} {ops : Array Oper} {o : Oper} {a : Act} {w w' : World} {K : Act → World → Prop} {Q : Exit → Act → World → Prop} {E : Prop} (hF : ∀ f, F.fn f)
    (hg : o.guard = none) (s x : Operand) (t : TypeId) (ho : o.op = .call { callee := .builtin .append, args := #[s, x], argTypes := #[t, t] }) (u v r : Value) (hs : a.eval s = u) (hx : a.eval x = v)
    (hrun : (Builtin.append_ #[t, t] o.type #[u, v]).run P w = .ok r w') (h : K (a.put o.dst r) w') :
    if Region.wanted o (yielded ops a.tmps) = true then Oper.wpIn F n P o a w K Q else E := by
  have hw : Region.wanted o (yielded ops a.tmps) = true := by simp [Region.wanted, hg]
  rw [if_pos hw]
  refine ⟨fun f _ => hF f, ?_⟩
  rw [Oper.semAt_eq _ _ _ (by rw [ho]; intro c h; cases h)]
  simp [execOp, ho, resolve, invoke, builtin, hs, hx, hrun, Result.andThen]
  exact h

theorem step_append_run {P : Program} {ops : Array Oper} {o : Oper} {a : Act} {w w' : World} {K : Act → World → Prop} {Q : Exit → Act → World → Prop} {E : Prop}
    (hg : o.guard = none) (s x : Operand) (t : TypeId) (ho : o.op = .call { callee := .builtin .append, args := #[s, x], argTypes := #[t, t] }) (u v r : Value) (hs : a.eval s = u) (hx : a.eval x = v)
    (hrun : (Builtin.append_ #[t, t] o.type #[u, v]).run P w = .ok r w') (h : K (a.put o.dst r) w') :
    if Region.wanted o (yielded ops a.tmps) = true then Oper.wp P o a w K Q else E := by
  have hw : Region.wanted o (yielded ops a.tmps) = true := by simp [Region.wanted, hg]
  rw [if_pos hw]
  unfold Oper.wp execOp
  simp only [ho, resolve, invoke, builtin, Sem.run_bind, Sem.run_pure, Result.andThen_ok, List.map_toArray, List.map_cons, List.map_nil, hs, hx, hrun]
  exact h

end Go.Proofs.YtbaijmkghgnleaaGreatDoor

namespace Go.Proofs.YtbaijmkghgnleaaGreatDoor
open Go.RowKit
set_option linter.unusedVariables false

theorem upon_in {l n : Nat} {P : Program} {o : Oper} {a : Act} {next : Act → World → Prop} {Q : Exit → Act → World → Prop} (r : Result Next) (h : Oper.upon P o a next Q r) : Oper.uponIn (Fence.wide.inRound l) n P o a next Q r := by
  unfold Oper.upon at h
  split at h
  · exact h
  · exact h
  · exact h
  · exact ⟨(fun h => nomatch h), CallsIn.inRound l (callsIn_wide.2 h)⟩
  · refine ⟨(fun h => nomatch h), fun c cs _ => ?_⟩
    obtain ⟨v, w', r, s⟩ := h c cs
    exact ⟨v, w', r, stepsIn_wide.2 s⟩
  · exact h
  · exact h.elim

theorem any_in {l n : Nat} {P : Program} {md : Region.Mode} {ops : Array Oper} {Q : Exit → Act → World → Prop} (hd : ∀ (i : Nat) (o : Oper), ops[i]? = some o → ∀ c : Call, o.op ≠ Op.defer c) (hQ : ¬ LetsOut Q) : ∀ (fuel : Nat) (listed : Array Bool) (a : Act) (w : World), wpAny P md ops Q fuel listed a w → wpAnyIn (Fence.wide.inRound l) n P md ops Q fuel listed a w := by
  intro fuel
  induction fuel with
  | zero => intro listed a w h; exact h
  | succ fuel ih =>
    intro listed a w h
    refine ⟨h.1, fun i hi => ?_⟩
    have h1 := h.2 i hi
    unfold wpOp at h1
    unfold wpOpIn
    cases ho : ops[i]? with
    | none => rw [ho] at h1; exact ih _ _ _ h1
    | some o =>
      rw [ho] at h1
      dsimp only at h1 ⊢
      split at h1
      · rename_i hw
        rw [if_pos hw]
        rcases h1 with h1 | h1
        · refine Oper.wpIn_mono (ih (listed.setIfInBounds i true)) ⟨fun f _ => trivial, ?_⟩
          rw [Oper.semAt_eq _ _ _ (hd i o ho)]
          exact upon_in _ h1
        · exact (hQ h1.2).elim
      · rename_i hw
        rw [if_neg hw]
        exact ⟨fun f _ => trivial, ih _ _ _ h1⟩

theorem region_in_round {l n : Nat} {P : Program} {ops : Array Oper} {Q : Exit → Act → World → Prop} {S : World → Prop} {id : Nat} {a : Act} {w : World} (hm : P.follows .mixedOrders = true) (hd : ∀ (i : Nat) (o : Oper), ops[i]? = some o → ∀ c : Call, o.op ≠ Op.defer c) (hQ : ¬ LetsOut Q) (hS : S w.drew)
    (h : S w.drew → wpAnyH P .any ops Q S ops.size (Array.replicate ops.size false) a w.drew) : (Code.region id ops true).wpIn (Fence.wide.inRound l) n P Q a w :=
  wpIn_region_any hm (any_in hd hQ _ _ _ _ (wpAny_of_held _ _ _ _ (h hS)))

end Go.Proofs.YtbaijmkghgnleaaGreatDoor

namespace Go.Proofs.YtbaijmkghgnleaaGreatDoor
open Go.RowKit
set_option linter.unusedVariables false

set_option maxRecDepth 10000 in
set_option maxHeartbeats 400000 in
theorem cloneB_any (a : Option Addr) (len cap : Nat) (zs : List Int) (w : World) (hs : Seg w a len zs) (hl : len ≤ 1099511627776) :
    Calls Tryz.prog 60 #[.slice a len cap] w fun e w' => ∃ a' cap', e = .returned (.slice a' len cap') ∧ Owns w' w.heap.size a' len cap' zs ∧ Below w.heap.size w w' := by
  obtain ⟨i0, hi, hz0, hz1, hz2⟩ := info_parts Tryz.info5
  have qT : ∀ (w : World) (a : Option Addr) (n c n' c' : Nat), (binOp .eql 27 (.slice a n c) (.slice none n' c')).run Tryz.prog w = .ok (.bool a.isNone) w := fun w a n c n' c' => Lib.run_eql_slice_nil w _ _ a n c n' c' Tryz.underlying27
  cases a with
  | none =>
    have h0 : len = 0 := by
      rcases hs.2.2 with h | ⟨b, off, h, _⟩
      · exact h
      · cases h
    subst h0
    obtain rfl : zs = [] := List.eq_nil_of_length_eq_zero hs.1
    go_enter Tryz.func60, Tryz.ntmps60
    go_wp2
    go_ret
    exact ⟨none, 0, rfl, ⟨World.ownsRow_nil _ _ _ _, by simp⟩, Below.refl _ _⟩
  | some ad =>
    have hzl : zs.length = len := hs.1
    have HC : Hid (∀ j u, (zs.map (Value.int .u8))[j]? = some u → (w.alloc (.cells #[] 5)).cell? (ad.add j) = some u) := by
      intro j u hj
      have hl2 : j < zs.length := by
        by_cases h : j < zs.length
        · exact h
        · rw [List.getElem?_eq_none (by simp; omega)] at hj; cases hj
      rcases hs.2.2 with h | ⟨b, off, h, _⟩
      · omega
      · injection h with h
        subst h
        exact cells_ints (hs.below ((Below.refl _ _).alloc (Nat.le_refl _) _)) j u hj
    have HR : Hid (∀ n ∈ zs, 0 ≤ n ∧ n ≤ 255) := hs.2.1
    have HO1 : Hid ((w.alloc (.cells #[] 5)).ownsRow w.heap.size 5 1 (.slice (some ⟨w.heap.size, 0, none⟩) 0 0) 0 []) := World.ownsRow_lit w #[] 0 (Nat.le_refl _) (Nat.zero_le _) rfl
    clear hs
    go_enter Tryz.func60, Tryz.ntmps60
    go_wp2_with (at_builtin; refine wpList_append_own _ rfl _ _ 27 rfl w.heap.size 5 i0 (.int .u8 0) 1 1 Tryz.underlying27 hi hz0 hz1 hz2 rfl (by decide) (.slice (some ⟨w.heap.size, 0, none⟩) 0 0) 0 [] rfl HO1.out ad len cap (zs.map (Value.int .u8)) rfl (by simp [hzl]) HC.out (ints_one zs) (by unfold maxLen; omega) (by omega) (by simp) ?_; intro v1 w1 hown1 hgrow1 _; refine Hid.out ?_)
    refine hidden ?_
    have HB1 : Hid (Below w.heap.size w w1) := ((Below.refl _ _).alloc (Nat.le_refl _) _).grown hgrow1 (by simp) (by simp [Value.ownBlock])
    obtain ⟨a1, c1, rfl⟩ := shape_of_owns hown1
    have HO2 : Hid (w1.ownsRow w.heap.size 5 1 (.slice a1 len c1) len (zs.map (Value.int .u8))) := by
      show World.ownsRow _ _ _ _ _ _ _
      have h := hown1
      rw [Nat.zero_add] at h
      simpa using h
    have hll : 0 + len = len := Nat.zero_add _
    rw [hll]
    clear hown1 hgrow1
    go_wp2_with fail
    go_ret
    exact ⟨_, _, rfl, ⟨HO2.out, HR.out⟩, HB1.out⟩

end Go.Proofs.YtbaijmkghgnleaaGreatDoor
