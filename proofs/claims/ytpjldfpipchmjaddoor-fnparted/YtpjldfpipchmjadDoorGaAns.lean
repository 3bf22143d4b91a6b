/- An answer of Feed in a variable of the law's: what is gathered then, and the block. -/
import Derived.Test.YtpjldfpipchmjadDoorBox4Set
import Derived.Test.YtpjldfpipchmjadDoorGaParts
import Derived.Test.YtpjldfpipchmjadDoorFeedNum
namespace Go.Proofs.YtpjldfpipchmjadDoor
open Go.RowKit
set_option linter.unusedVariables false

/-- What is gathered lies in a variable, its bytes and the block's in memory of their own. -/
def AnsAt (W : World) (base bw : Nat) (S : Int) (EN : Bool) (wa : Option Addr) (L1 cw : Nat) (Z1 : List Int) (wb : Option Addr) (L2 cwb : Nat) (Z2 : List Int) : Prop :=
  Box3 W bw 30 (.int .i64 S) (.bool EN) (.slice wa L1 cw) ∧ Owns W base wa L1 cw Z1 ∧ Owns W base wb L2 cwb Z2 ∧ Parts2 wa wb ∧ base ≤ bw

section
variable {W W' : World} {base bw : Nat} {S : Int} {EN : Bool} {wa : Option Addr} {L1 cw : Nat} {Z1 : List Int} {wb : Option Addr} {L2 cwb : Nat} {Z2 : List Int}

theorem AnsAt.stays (h : AnsAt W base bw S EN wa L1 cw Z1 wb L2 cwb Z2) (hb : Below W.heap.size W W') : AnsAt W' base bw S EN wa L1 cw Z1 wb L2 cwb Z2 :=
  ⟨h.1.stays hb, h.2.1.below hb, h.2.2.1.below hb, h.2.2.2⟩

theorem AnsAt.lts (h : AnsAt W base bw S EN wa L1 cw Z1 wb L2 cwb Z2) : bw < W.heap.size ∧ (∀ q, wa.map (·.block) = some q → base ≤ q ∧ q < W.heap.size) ∧ ∀ q, wb.map (·.block) = some q → base ≤ q ∧ q < W.heap.size :=
  ⟨h.1.lt, h.2.1.lt, h.2.2.1.lt⟩

theorem AnsAt.under {r : Option Nat} (h : AnsAt W base bw S EN wa L1 cw Z1 wb L2 cwb Z2) (hg : W.grownBy W' r) (L : Nat) (h0 : bw < L) (h1 : ∀ q, wa.map (·.block) = some q → q < L) (h2 : ∀ q, wb.map (·.block) = some q → q < L) (hr : ∀ q, r = some q → L ≤ q) : AnsAt W' base bw S EN wa L1 cw Z1 wb L2 cwb Z2 :=
  ⟨h.1.grown hg (fun e => by have := hr _ e; omega), h.2.1.grown hg (fun q e e2 => by have := hr q e; have := h1 q e2; omega), h.2.2.1.grown hg (fun q e e2 => by have := hr q e; have := h2 q e2; omega), h.2.2.2⟩

theorem AnsAt.above {r : Option Nat} (h : AnsAt W base bw S EN wa L1 cw Z1 wb L2 cwb Z2) (hg : W.grownBy W' r) (hr : ∀ q, r = some q → q < base) : AnsAt W' base bw S EN wa L1 cw Z1 wb L2 cwb Z2 :=
  ⟨h.1.grown hg (fun e => by have := hr _ e; have := h.2.2.2.2; omega), h.2.1.grown hg (fun q e e2 => by have := hr q e; have := (h.2.1.lt q e2).1; omega), h.2.2.1.grown hg (fun q e e2 => by have := hr q e; have := (h.2.2.1.lt q e2).1; omega), h.2.2.2⟩

theorem AnsAt.first {Y1 : List Int} (h : AnsAt W base bw S EN wa L1 cw Z1 wb L2 cwb Z2) (ho : Owns W' base wa L1 cw Y1) (hg : Only W W' wa) : AnsAt W' base bw S EN wa L1 cw Y1 wb L2 cwb Z2 :=
  ⟨h.1.grown hg (fun e => h.2.1.other (show W.heap[bw]? = _ from h.1) (by decide) e), ho, h.2.2.1.grown hg (fun q e e2 => h.2.2.2.1 q e e2), h.2.2.2⟩

theorem AnsAt.second {Y2 : List Int} (h : AnsAt W base bw S EN wa L1 cw Z1 wb L2 cwb Z2) (ho : Owns W' base wb L2 cwb Y2) (hg : Only W W' wb) : AnsAt W' base bw S EN wa L1 cw Z1 wb L2 cwb Y2 :=
  ⟨h.1.grown hg (fun e => h.2.2.1.other (show W.heap[bw]? = _ from h.1) (by decide) e), h.2.1.grown hg (fun q e e2 => h.2.2.2.1 q e2 e), ho, h.2.2.2⟩

theorem AnsAt.store {b1 : Nat} {x y z : Value} (hx : Box3 W bw 30 x y z) (h1 : Owns W b1 wa L1 cw Z1) (h2 : Owns W b1 wb L2 cwb Z2) (hp : Parts2 wa wb) (hb : bw < b1) (hbase : base ≤ bw) :
    AnsAt (((W.setCell ⟨bw, 0, none⟩ (.int .i64 S)).setCell ⟨bw, 1, none⟩ (.bool EN)).setCell ⟨bw, 2, none⟩ (.slice wa L1 cw)) base bw S EN wa L1 cw Z1 wb L2 cwb Z2 := by
  have n1 : wa.map (·.block) ≠ some bw := fun e => by have := (h1.lt _ e).1; omega
  have n2 : wb.map (·.block) ≠ some bw := fun e => by have := (h2.lt _ e).1; omega
  exact ⟨box3_set2 (box3_set1 (box3_set0 hx _) _) _, (owns_set (owns_set (owns_set h1 n1) n1) n1).low (by omega), (owns_set (owns_set (owns_set h2 n2) n2) n2).low (by omega), hp, hbase⟩

theorem AnsAt.new {b1 : Nat} (h1 : Owns W b1 wa L1 cw Z1) (h2 : Owns W b1 wb L2 cwb Z2) (hp : Parts2 wa wb) (hbase : base ≤ b1) (hb : base ≤ W.heap.size) :
    AnsAt (W.alloc (.cells #[.int .i64 S, .bool EN, .slice wa L1 cw] 30)) base W.heap.size S EN wa L1 cw Z1 wb L2 cwb Z2 :=
  ⟨Box3.new _ _ _ _ _, (h1.below ((Below.refl _ _).alloc (Nat.le_refl _) _)).low hbase, (h2.below ((Below.refl _ _).alloc (Nat.le_refl _) _)).low hbase, hp, hb⟩
end

theorem grownR_len (s : Int) (en : Bool) (zs : List Int) (k f fs : Int) (ys : List Int) (g : Int × Bool × List Int) (h : grownR s en zs k f fs ys = .inr g) : g.2.2.length ≤ zs.length + ys.length := by
  unfold grownR at h
  split at h
  · split at h
    · split at h
      · cases h
      · rename_i b hb
        injection h with h
        subst h
        have := unpad_len _ _ _ _ hb
        dsimp only
        omega
    · split at h
      · split at h
        · cases h
        · injection h with h
          subst h
          simp
      · injection h with h
        subst h
        simp
  · cases h

theorem feedR_len (s : Int) (en : Bool) (zs : List Int) (k f fs : Int) (ys : List Int) : (feedR s en zs k f fs ys).1.2.2.length ≤ zs.length + ys.length ∧ (feedR s en zs k f fs ys).2.1.length ≤ zs.length + ys.length := by
  unfold feedR
  split
  · simp
  · rename_i g hg
    have := grownR_len s en zs k f fs ys g hg
    split
    · exact ⟨by simp, this⟩
    · exact ⟨this, by simp⟩

end Go.Proofs.YtpjldfpipchmjadDoor
