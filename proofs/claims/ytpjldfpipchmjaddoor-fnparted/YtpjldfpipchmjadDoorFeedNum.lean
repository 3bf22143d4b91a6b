/- What Feed answers: the model. No function of the program in it. -/
import Derived.Test.YtpjldfpipchmjadDoorGaOrd
import Derived.Test.YtpjldfpipchmjadDoorUnpA
namespace Go.Proofs.YtpjldfpipchmjadDoor
open Go.RowKit
set_option linter.unusedVariables false

/-- What a frame makes of what is gathered: why it is no part, or what there is then. -/
def grownR (s : Int) (en : Bool) (zs : List Int) (k f fs : Int) (ys : List Int) : Int ⊕ (Int × Bool × List Int) :=
  if ordB s en zs.length k f fs ys.length = true then
    if k = 1 then
      match unpadR (bits .and .i64 f 8 != 0) ((k == 1) && (bits .and .i64 f 32 != 0)) ys with
      | none => .inl 3
      | some b => .inr (fs, bits .and .i64 f 1 != 0, b)
    else if k = 9 then (if 3000 < zs.length + ys.length then .inl 4 else .inr (s, en, zs ++ ys))
    else .inr (s, en, zs)
  else .inl 2

/-- What Feed answers: what is gathered then, the block, the code. -/
def feedR (s : Int) (en : Bool) (zs : List Int) (k f fs : Int) (ys : List Int) : (Int × Bool × List Int) × List Int × Int :=
  match grownR s en zs k f fs ys with
  | .inl c => ((s, en, zs), [], c)
  | .inr g => if (k = 1 ∨ k = 9) ∧ (bits .and .i64 f 4 != 0) = true then ((0, false, []), g.2.2, 1) else (g, [], 0)

theorem okG_len {s : Int} {en : Bool} {n : Nat} (h : okG s en n = true) : n ≤ 3000 := by
  unfold okG at h
  split at h
  · simp at h; omega
  · have := of_decide_eq_true h; omega

theorem codeF_len {k f s : Int} {n : Nat} (h : codeF k f s n = 0) : n ≤ 1000 := by
  unfold codeF at h
  split at h
  · rename_i h1; exact (okF_yes h1.1).2.2.2
  · cases h

theorem ordB_yes {s : Int} {en : Bool} {n : Nat} {k f fs : Int} {m : Nat} (h : ordB s en n k f fs m = true) : okG s en n = true ∧ codeF k f fs m = 0 ∧ n ≤ 3000 ∧ m ≤ 1000 := by
  unfold ordB at h
  simp only [Bool.and_eq_true, beq_iff_eq] at h
  exact ⟨h.1.1, h.1.2, okG_len h.1.1, codeF_len h.1.2⟩

theorem unpad_len (p q : Bool) (zs : List Int) (ys : List Int) (h : unpadR p q zs = some ys) : ys.length ≤ zs.length := by
  unfold unpadR at h
  obtain ⟨xs, hx, hy⟩ := Option.bind_eq_some_iff.1 h
  have h1 : ys.length ≤ xs.length := by
    cases q with
    | true => obtain ⟨_, _, h2, _⟩ := prioCut_some hy; omega
    | false => injection hy with hy; rw [hy]; exact Nat.le_refl _
  have h2 : xs.length ≤ zs.length := by
    cases p with
    | true => obtain ⟨_, _, h2⟩ := padCut_some hx; omega
    | false => injection hx with hx; rw [hx]; exact Nat.le_refl _
  omega

end Go.Proofs.YtpjldfpipchmjadDoor
