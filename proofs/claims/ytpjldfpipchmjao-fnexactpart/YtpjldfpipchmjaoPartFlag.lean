/- Rows of frames: a flag is written; what is no cells does not touch them. -/
import Derived.Test.YtpjldfpipchmjaoFrSnoc
import Derived.Test.YtpjldfpipchmjaoPartNum
import Derived.RangeFuncWrites
namespace Go.Proofs.Ytpjldfpipchmjao
open Go.RowKit
set_option linter.unusedVariables false

theorem feCells_flag (l : List FE) (e : FE) (m : List FE) (x : Int) :
    (feCells (l ++ e :: m)).set (l.length * 4 + 1) (.int .i64 x) = feCells (l ++ { e with f := x } :: m) := by
  have hl := feCells_len l
  rw [feCells_append, feCells_append, feCells_cons, feCells_cons]
  rw [List.set_append_right _ _ (by omega), hl, show l.length * 4 + 1 - l.length * 4 = 1 by omega]
  rfl

/-- A frame's flags are written over in its row. -/
theorem FrRow.flagged {W : World} {base g n c : Nat} {M D : List FE} {e : FE} (h : FrRow W base (.slice (some ⟨g, 0, none⟩) n c) (M ++ e :: D)) (hn : (M ++ e :: D).length = n) (x : Int) :
    FrRow (W.setCell ⟨g, M.length * 4 + 1, none⟩ (.int .i64 x)) base (.slice (some ⟨g, 0, none⟩) n c) (M ++ { e with f := x } :: D) ∧ W.grownBy (W.setCell ⟨g, M.length * 4 + 1, none⟩ (.int .i64 x)) (some g) := by
  have ho := h.1
  rw [hn] at ho
  have h1 := ho.stored (M.length * 4 + 1) (.int .i64 x)
  have hg : W.grownBy (W.setCell ⟨g, M.length * 4 + 1, none⟩ (.int .i64 x)) (some g) := h1.2
  refine ⟨⟨?_, ?_, pair_same M D e _ rfl h.2.2⟩, hg⟩
  · have h4 := h1.1
    rw [feCells_flag] at h4
    rw [show (M ++ { e with f := x } :: D).length = n by rw [← hn]; simp]
    exact h4
  · intro e' he
    have key : ∀ u ∈ M ++ e :: D, Owns (W.setCell ⟨g, M.length * 4 + 1, none⟩ (.int .i64 x)) base u.a u.n u.c u.zs := fun u hu => (h.2.1 u hu).grown hg (fun q hq => h.rowApart (h.2.1 u hu) q (by injection hq with hq; subst hq; rfl))
    rcases List.mem_append.1 he with he | he
    · exact key e' (List.mem_append_left _ he)
    · rcases List.mem_cons.1 he with rfl | he
      · exact key e (List.mem_append_right _ (List.mem_cons_self ..))
      · exact key e' (List.mem_append_right _ (List.mem_cons_of_mem _ he))

theorem FrRow.flagAt {W : World} {base g n c i : Nat} {l : List FE} (h : FrRow W base (.slice (some ⟨g, 0, none⟩) n c) l) (hn : l.length = n) (hi : i < l.length) (x : Int) :
    FrRow (W.setCell ⟨g, i * 4 + 1, none⟩ (.int .i64 x)) base (.slice (some ⟨g, 0, none⟩) n c) (l.set i { l[i] with f := x }) ∧ W.grownBy (W.setCell ⟨g, i * 4 + 1, none⟩ (.int .i64 x)) (some g) := by
  have e1 : l = l.take i ++ l[i] :: l.drop (i + 1) := by rw [← List.drop_eq_getElem_cons hi]; exact (List.take_append_drop i l).symm
  have hl : (l.take i).length = i := by rw [List.length_take]; omega
  have e2 : l.set i { l[i] with f := x } = l.take i ++ { l[i] with f := x } :: l.drop (i + 1) := by
    rw [List.set_eq_take_append_cons_drop, if_pos hi]
  have h2 : FrRow W base (.slice (some ⟨g, 0, none⟩) n c) (l.take i ++ l[i] :: l.drop (i + 1)) := by rw [← e1]; exact h
  have h3 := h2.flagged (by rw [← e1]; exact hn) x
  rw [hl] at h3
  rw [e2]
  exact h3

/-- A row's block holds cells. -/
theorem row_is_cells {W : World} {base n size : Nat} {e : TypeId} {v : Value} {xs : List Value} (h : W.ownsRow base e size v n xs) {r : Nat} {o : Obj} (ho : W.heap[r]? = some o) (hc : o.isCells = false) : v.ownBlock ≠ some r := by
  intro hv
  rcases h.2 with ⟨rfl, _⟩ | ⟨g, cap, cur, rfl, _, hg, _⟩
  · cases hv
  · obtain rfl : g = r := by simpa [Value.ownBlock] using hv
    rw [hg] at ho
    injection ho with ho
    subst ho
    cases hc

theorem FrRow.others {W W' : World} {base : Nat} {v : Value} {l : List FE} {row : Option Nat} (h : FrRow W base v l) (hg : W.grownBy W' row) (hr : ∀ r, row = some r → ∃ o : Obj, W.heap[r]? = some o ∧ o.isCells = false) : FrRow W' base v l := by
  refine h.grown hg (fun q e => ?_) (fun x hx q e => ?_)
  · obtain ⟨o, h1, h2⟩ := hr q e
    exact row_is_cells h.1 h1 h2
  · obtain ⟨o, h1, h2⟩ := hr q e
    have := row_is_cells (h.2.1 x hx).1 h1 h2
    rwa [ownBlock_sl] at this

/-- The parts before their flags. -/
def raw (m : Nat) (s : Int) (zs : List Int) (j : Nat) : Int × Int × Int × List Int := (if j = 0 then 1 else 9, 0, s, (zs.drop (j * m)).take m)

/-- The flags written into the first and the last part. -/
theorem flags_done (m : Nat) (s : Int) (en : Bool) (zs : List Int) (l : List FE) (P : Nat) (hP : pn m zs.length = P + 1) (hl : l.length = P + 1) (hd : l.map FE.data = (List.range (P + 1)).map (raw m s zs)) (l1 : List FE) (h1 : l1 = if en = true then l.set 0 { l[0] with f := 1 } else l) (hl1 : P < l1.length) (x : Int) (hx : x = pf en P (P + 1)) :
    (l1.set P { l1[P] with f := x }).map FE.data = (List.range (pn m zs.length)).map (prt m s en zs) := by
  have hat : ∀ j (hj : j < l.length), (l[j]).data = raw m s zs j := by
    intro j hj
    have h2 : (l.map FE.data)[j]? = ((List.range (P + 1)).map (raw m s zs))[j]? := by rw [hd]
    rw [List.getElem?_map, List.getElem?_map, List.getElem?_eq_getElem hj, List.getElem?_range (by omega)] at h2
    simpa using h2
  have hlen : l1.length = P + 1 := by rw [h1]; split <;> simp [hl]
  have hat1 : ∀ j (hj : j < l1.length), (l1[j]).data = (if j = 0 then 1 else 9, if j = 0 ∧ en = true then 1 else 0, s, (zs.drop (j * m)).take m) := by
    subst h1
    intro j hj
    cases en with
    | false => simp only [Bool.false_eq_true, if_false, and_false]; exact hat j (by omega)
    | true =>
      simp only [if_true, and_true]
      rw [List.getElem_set]
      by_cases h0 : j = 0
      · subst h0
        have := hat 0 (by omega)
        simp only [FE.data, raw, Prod.mk.injEq] at this
        simp [FE.data, this]
      · rw [if_neg (Ne.symm h0)]
        have := hat j (by omega)
        rw [this]
        simp [raw, h0]
  apply List.ext_getElem?
  intro j
  rw [List.getElem?_map, List.getElem?_map, hP]
  by_cases hj : j < P + 1
  · rw [List.getElem?_range hj, List.getElem?_eq_getElem (by simp; omega)]
    simp only [Option.map_some, Option.some.injEq]
    rw [List.getElem_set]
    have h3 := hat1 j (by omega)
    by_cases hjP : P = j
    · subst hjP
      simp only [FE.data, Prod.mk.injEq] at h3
      rw [if_pos rfl]
      simp [FE.data, prt, hP, hx, h3]
    · rw [if_neg hjP, h3]
      have : ¬ j = P := fun e => hjP e.symm
      simp [prt, hP, pf, this]
  · rw [List.getElem?_eq_none (by simp; omega), List.getElem?_eq_none (by simp; omega)]
    rfl

end Go.Proofs.Ytpjldfpipchmjao
