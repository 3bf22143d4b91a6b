/- A region that draws its order, within a round of a loop over an iterator: walked as everywhere, its loads first. No program in it. -/
import Derived.OrdersIn
import Derived.OwnWalkIn
import Derived.RangeFuncCalls
import Derived.Deep.RegionHeld3
import Derived.WalkKit
namespace Go.Proofs.YtpjldfpipchmjadDoor
open Go.RowKit
set_option linter.unusedVariables false

theorem upon_in {l n : Nat} {P : Program} {o : Oper} {a : Act} {next : Act → World → Prop} {Q : Exit → Act → World → Prop} (r : Result Next) (h : Oper.upon P o a next Q r) : Oper.uponIn (Fence.wide.inRound l) n P o a next Q r := by
  unfold Oper.upon at h
  split at h
  · exact h
  · exact h
  · exact h
  · exact ⟨(fun h => nomatch h), CallsIn.inRound l (callsIn_wide.2 h)⟩
  · refine ⟨(fun h => nomatch h), fun c cs _ => ?_⟩
    obtain ⟨v, w', r, s⟩ := h c cs
    exact ⟨v, w', r, stepsIn_wide.2 s⟩
  · exact h
  · exact h.elim

theorem any_in {l n : Nat} {P : Program} {md : Region.Mode} {ops : Array Oper} {Q : Exit → Act → World → Prop} (hd : ∀ (i : Nat) (o : Oper), ops[i]? = some o → ∀ c : Call, o.op ≠ Op.defer c) (hQ : ¬ LetsOut Q) : ∀ (fuel : Nat) (listed : Array Bool) (a : Act) (w : World), wpAny P md ops Q fuel listed a w → wpAnyIn (Fence.wide.inRound l) n P md ops Q fuel listed a w := by
  intro fuel
  induction fuel with
  | zero => intro listed a w h; exact h
  | succ fuel ih =>
    intro listed a w h
    refine ⟨h.1, fun i hi => ?_⟩
    have h1 := h.2 i hi
    unfold wpOp at h1
    unfold wpOpIn
    cases ho : ops[i]? with
    | none => rw [ho] at h1; exact ih _ _ _ h1
    | some o =>
      rw [ho] at h1
      dsimp only at h1 ⊢
      split at h1
      · rename_i hw
        rw [if_pos hw]
        rcases h1 with h1 | h1
        · refine Oper.wpIn_mono (ih (listed.setIfInBounds i true)) ⟨fun f _ => trivial, ?_⟩
          rw [Oper.semAt_eq _ _ _ (hd i o ho)]
          exact upon_in _ h1
        · exact (hQ h1.2).elim
      · rename_i hw
        rw [if_neg hw]
        exact ⟨fun f _ => trivial, ih _ _ _ h1⟩

theorem region_in_round {l n : Nat} {P : Program} {ops : Array Oper} {Q : Exit → Act → World → Prop} {S : World → Prop} {id : Nat} {a : Act} {w : World} (hm : P.follows .mixedOrders = true) (hd : ∀ (i : Nat) (o : Oper), ops[i]? = some o → ∀ c : Call, o.op ≠ Op.defer c) (hQ : ¬ LetsOut Q) (hS : S w.drew)
    (h : S w.drew → wpAnyH P .any ops Q S ops.size (Array.replicate ops.size false) a w.drew) : (Code.region id ops true).wpIn (Fence.wide.inRound l) n P Q a w :=
  wpIn_region_any hm (any_in hd hQ _ _ _ _ (wpAny_of_held _ _ _ _ (h hS)))

end Go.Proofs.YtpjldfpipchmjadDoor
