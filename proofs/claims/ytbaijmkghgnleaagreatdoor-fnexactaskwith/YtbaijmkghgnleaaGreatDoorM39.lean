/- A region that draws its order, whose operations each leave all that was there as it was (they read, make variables, call what makes rows of its own), and behind all of them a few that come one by one: each operation is looked at once, in whatever world it may come up. No program in it. What the specification's AskWith answers. The program's own look at a block's stream. Rows of frames: a flag is written; what is no cells does not touch them. -/
import Derived.Test.YtbaijmkghgnleaaGreatDoorM01
import Derived.StillTail
import Derived.Deep.QuietTactic
import Derived.Test.YtbaijmkghgnleaaGreatDoorM25
import Derived.Test.YtbaijmkghgnleaaGreatDoorM26
import Derived.Test.YtbaijmkghgnleaaGreatDoorM27
import Derived.Test.YtbaijmkghgnleaaGreatDoorM36
import Derived.Test.YtbaijmkghgnleaaGreatDoorM38
import Derived.Test.YtbaijmkghgnleaaGreatDoorM37
import Derived.Test.YtbaijmkghgnleaaGreatDoorM32
import Derived.Test.YtbaijmkghgnleaaGreatDoorM28
import Derived.Test.YtbaijmkghgnleaaGreatDoorM26
import Derived.Test.YtbaijmkghgnleaaGreatDoorM26
import Derived.Deep.CutBlock
import Derived.Test.YtbaijmkghgnleaaGreatDoorM24
import Derived.RangeFuncWrites
namespace Go.Proofs.YtbaijmkghgnleaaGreatDoor
open Go.RowKit
set_option linter.unusedVariables false

theorem put_mk (t : Array Value) (d : List Deferred) (i : Tmp) (v : Value) : Act.put ⟨t, d⟩ (some i) v = ⟨t.setIfInBounds i v, d⟩ := rfl

theorem all_zero {S : Nat → Prop} : ∀ i, i < 0 → S i := fun i h => absurd h (by omega)
theorem all_succ {S : Nat → Prop} {n : Nat} (h : ∀ i, i < n → S i) (hn : S n) : ∀ i, i < n + 1 → S i := fun i hi => by
  by_cases e : i = n
  · subst e
    exact hn
  · exact h i (by omega)

/-- What is known of a value, and stays so when what was there is as it was. -/
structure Stay where
  p : Value → World → Prop
  mono : ∀ {v w w'}, p v w → Below w.heap.size w w' → p v w'

def Stay.free : Stay := ⟨fun _ _ => True, fun _ _ => trivial⟩
def Stay.val (c : Value) : Stay := ⟨fun v _ => v = c, fun h _ => h⟩

/-- What an operation is asked that came to this. -/
def growsUpon (P : Program) (R : Value → World → Prop) (w : World) : Result Next → Prop
  | .ok (.value v) w' => Below w.heap.size w w' ∧ R v w'
  | .ok .skip w' => Below w.heap.size w w' ∧ R undef w'
  | .ok (.enter f args) w' => Calls P f args w' fun e w'' => ∃ v, e = .returned v ∧ Below w.heap.size w w'' ∧ R v w''
  | .ok (.row row args) w' => Rows P row args w' fun v w'' => Below w.heap.size w w'' ∧ R v w''
  | _ => False

section
variable {P : Program}

theorem put_get {a : Act} {d : Tmp} (hd : d < a.tmps.size) {u v : Value} (h : a.put (some d) u = a.put (some d) v) : u = v := by
  have h1 : (a.tmps.setIfInBounds d u)[d]? = (a.tmps.setIfInBounds d v)[d]? := congrArg (fun x : Act => x.tmps[d]?) h
  rw [Array.getElem?_setIfInBounds_self_of_lt hd, Array.getElem?_setIfInBounds_self_of_lt hd] at h1
  exact Option.some.inj h1

/-- An operation walked alone. -/
theorem grows_of_wp {o : Oper} {d : Tmp} {a : Act} {w : World} {R : Value → World → Prop} (hd : o.dst = some d) (hs : d < a.tmps.size) (hg : o.guard = none)
    (h : ∀ K : Act → World → Prop, (∀ v w', Below w.heap.size w w' → R v w' → K (a.put o.dst v) w') → wpList P #[o] (fun e a w => e = .normal ∧ K a w) [o] a w) :
    growsUpon P R w ((execOp a.eval o).run P w) := by
  have h1 := h (fun a' w' => ∃ v, a' = a.put o.dst v ∧ Below w.heap.size w w' ∧ R v w') (fun v w' hb hr => ⟨v, rfl, hb, hr⟩)
  unfold wpList at h1
  rw [if_pos (by simp [Region.wanted, hg])] at h1
  rcases h1 with h1 | ⟨_, x, y, h1, _⟩
  case inr => cases h1
  unfold Oper.wp at h1
  generalize (execOp a.eval o).run P w = r at *
  cases r with
  | ok n w' =>
    cases n <;> simp only [Oper.upon, wpList] at h1 <;> simp only [growsUpon]
    case value u =>
      obtain ⟨_, v, e, hb, hr⟩ := h1
      rw [hd] at e
      rw [put_get hs e]
      exact ⟨hb, hr⟩
    case skip =>
      obtain ⟨_, v, e, hb, hr⟩ := h1
      rw [hd] at e
      rw [put_get hs e]
      exact ⟨hb, hr⟩
    case enter f args =>
      refine h1.mono fun e w'' he => ?_
      cases e with
      | returned u =>
        obtain ⟨_, v, e, hb, hr⟩ := he
        rw [hd] at e
        exact ⟨v, by rw [put_get hs e], hb, hr⟩
      | panicked c => cases he.1
      | outgrown => obtain ⟨x, y, h1, _⟩ := he; cases h1
    case row row args =>
      refine h1.mono fun u w'' he => ?_
      obtain ⟨_, v, e, hb, hr⟩ := he
      rw [hd] at e
      rw [put_get hs e]
      exact ⟨hb, hr⟩
    case defer dd =>
      obtain ⟨_, v, e, hb, hr⟩ := h1
      rw [hd] at e
      have h2 : dd :: a.defers = a.defers := congrArg Act.defers e
      exact absurd (congrArg List.length h2) (by simp)
  | halt x w' =>
    cases x <;> simp only [Oper.upon] at h1 <;> first | exact h1 | cases h1.1

theorem wp_of_grows {o : Oper} {a b : Act} {w : World} {R : Value → World → Prop} {K : Act → World → Prop} {Q : Exit → Act → World → Prop} (he : execOp a.eval o = execOp b.eval o)
    (h : growsUpon P R w ((execOp b.eval o).run P w)) (hK : ∀ v w', Below w.heap.size w w' → R v w' → K (a.put o.dst v) w') : o.wp P a w K Q := by
  unfold Oper.wp
  rw [he]
  generalize (execOp b.eval o).run P w = r at *
  cases r with
  | ok n w' =>
    cases n <;> simp only [growsUpon] at h <;> simp only [Oper.upon]
    case value u => exact hK _ _ h.1 h.2
    case skip => exact hK _ _ h.1 h.2
    case enter f args =>
      refine h.mono fun e w'' he => ?_
      obtain ⟨v, rfl, hb, hr⟩ := he
      exact hK _ _ hb hr
    case row row args => exact h.mono fun u w'' he => hK _ _ he.1 he.2
  | halt x w' => simp only [growsUpon] at h

/-- The values of the listed ones laid into their slots, in the order of the text. -/
def putsL (ops : Array Oper) (L : Nat → Bool) (vs : Nat → Value) (a : Act) : Nat → Act
  | 0 => a
  | k + 1 => if L k then (putsL ops L vs a k).put ((ops[k]?).bind (·.dst)) (vs k) else putsL ops L vs a k

def dstOf (ops : Array Oper) (i : Nat) : Option Tmp := (ops[i]?).bind (·.dst)

/-- The bounds of such a region. -/
def growB (ops : Array Oper) (n size : Nat) : Bool :=
  Region.noSelect ops && decide (n < ops.size) && Region.sinkB .any ops n && Region.chainB .any ops n &&
  Region.seqB .any ops (ops.size - n) n ((List.range n).foldl (fun l i => l.setIfInBounds i true) (Array.replicate ops.size false)) &&
  ((List.range n).all fun i => match ops[i]? with
    | some o => o.guard.isNone && (match o.dst with | some d => decide (d < size) | none => false) && (o.after.all fun e => !Region.binds .any e || decide (e.on < i)) &&
      ((List.range n).all fun j => decide (i = j) || (dstOf ops i != dstOf ops j && (match dstOf ops j with | some d => !(o.looksAt ops).contains d || (decide (j < i) && Region.waitsFor .any ops i j) | none => false)))
    | none => false)

section
variable {ops : Array Oper}

theorem putsL_congr {L L' : Nat → Bool} {vs vs' : Nat → Value} {a : Act} : ∀ k, (∀ j, j < k → L j = L' j ∧ (L j = true → vs j = vs' j)) → putsL ops L vs a k = putsL ops L' vs' a k
  | 0, _ => rfl
  | k + 1, h => by
    obtain ⟨h1, h2⟩ := h k (by omega)
    have ih := putsL_congr (a := a) k (fun j hj => h j (by omega))
    unfold putsL
    rw [ih, ← h1]
    by_cases hL : L k = true
    · rw [if_pos hL, if_pos hL, h2 hL]
    · rw [if_neg hL, if_neg hL]

theorem putsL_size {L : Nat → Bool} {vs : Nat → Value} {a : Act} : ∀ k, (putsL ops L vs a k).tmps.size = a.tmps.size
  | 0 => rfl
  | k + 1 => by
    unfold putsL
    split
    · cases (ops[k]?).bind (·.dst) <;> simp [Act.put, putsL_size k]
    · exact putsL_size k

/-- One more value, put last: it might have been put in its turn. -/
theorem putsL_put {L : Nat → Bool} {vs : Nat → Value} {a : Act} {n i : Nat} {v : Value} (hL : L i = false) (hne : ∀ j, j < n → j ≠ i → ∀ d, dstOf ops j = some d → dstOf ops i ≠ some d) :
    ∀ k, k ≤ n → (i < k → (putsL ops L vs a k).put (dstOf ops i) v = putsL ops (fun j => L j || decide (j = i)) (fun j => if j = i then v else vs j) a k) ∧ (k ≤ i → putsL ops L vs a k = putsL ops (fun j => L j || decide (j = i)) (fun j => if j = i then v else vs j) a k)
  | 0, _ => ⟨fun h => by omega, fun _ => rfl⟩
  | k + 1, hkn => by
    obtain ⟨h1, h2⟩ := putsL_put (a := a) (vs := vs) (v := v) hL hne k (by omega)
    refine ⟨fun h => ?_, fun h => ?_⟩
    · by_cases hki : k = i
      · subst hki
        unfold putsL
        rw [if_neg (by rw [hL]; simp), if_pos (by simp), if_pos rfl, h2 (Nat.le_refl _)]
        rfl
      · have h3 := h1 (by omega)
        unfold putsL
        by_cases hLk : L k = true
        · rw [if_pos hLk, if_pos (by simp [hLk]), if_neg hki, ← h3]
          exact Act.put_comm _ _ _ (fun d hd => hne k (by omega) hki d hd)
        · rw [if_neg hLk, if_neg (by simp [hLk, hki])]
          exact h3
    · unfold putsL
      have hki : k ≠ i := by omega
      rw [h2 (by omega)]
      by_cases hLk : L k = true
      · rw [if_pos hLk, if_pos (by simp [hLk]), if_neg hki]
      · rw [if_neg hLk, if_neg (by simp [hLk, hki])]

theorem eval_putsL {L L' : Nat → Bool} {vs vs' : Nat → Value} {a : Act} {x : Operand} : ∀ k, (∀ j, j < k → (∀ d, dstOf ops j = some d → x ≠ .tmp d) ∨ (L j = L' j ∧ vs j = vs' j)) → (putsL ops L vs a k).eval x = (putsL ops L' vs' a k).eval x
  | 0, _ => rfl
  | k + 1, h => by
    have ih := eval_putsL (a := a) k (fun j hj => h j (by omega))
    unfold putsL
    rcases h k (by omega) with h1 | ⟨h1, h2⟩
    · have e : ∀ b v, (Act.put b ((ops[k]?).bind (·.dst)) v).eval x = b.eval x := fun b v => Act.eval_put h1
      have e1 : ∀ (c : Bool) (b : Act) (v : Value), (if c = true then Act.put b ((ops[k]?).bind (·.dst)) v else b).eval x = b.eval x := fun c b v => by
        cases c
        · rfl
        · exact e b v
      rw [e1, e1, ih]
    · rw [h1, h2]
      by_cases hL : L' k = true
      · rw [if_pos hL, if_pos hL]
        cases hd : (ops[k]?).bind (·.dst) with
        | none => exact ih
        | some d =>
          cases x with
          | tmp t =>
            by_cases ht : d = t
            · subst ht
              by_cases hlt : d < a.tmps.size
              · simp [Act.eval, Act.put, putsL_size, hlt]
              · simp [Act.eval, Act.put, putsL_size, hlt]
            · rw [Act.eval_put (fun d' hd' => by injection hd' with hd'; subst hd'; intro e; injection e with e; exact ht e.symm), Act.eval_put (fun d' hd' => by injection hd' with hd'; subst hd'; intro e; injection e with e; exact ht e.symm)]
              exact ih
          | _ => rfl
      · rw [if_neg hL, if_neg hL]
        exact ih

theorem foldl_set_get (n j : Nat) : ∀ (L : Array Bool), n ≤ L.size → ((List.range n).foldl (fun l i => l.setIfInBounds i true) L).getD j false = (decide (j < n) || L.getD j false) ∧ ((List.range n).foldl (fun l i => l.setIfInBounds i true) L).size = L.size := by
  induction n with
  | zero => intro L _; simp
  | succ n ih =>
    intro L hL
    obtain ⟨h1, h2⟩ := ih L (by omega)
    rw [List.range_succ, List.foldl_append, List.foldl_cons, List.foldl_nil]
    refine ⟨?_, by rw [Array.size_setIfInBounds, h2]⟩
    by_cases hj : n = j
    · subst hj
      have h3 : n < ((List.range n).foldl (fun l i => l.setIfInBounds i true) L).size := by rw [h2]; omega
      simp only [Array.getD_eq_getD_getElem?]
      rw [Array.getElem?_setIfInBounds_self_of_lt h3]
      simp
    · rw [getD_set_ne false hj, h1]
      congr 1
      simp only [decide_eq_decide]
      omega

/-- How many of the first n are not listed. -/
def unlisted (listed : Array Bool) (n : Nat) : Nat := ((List.range n).filter fun i => !listed.getD i false).length

theorem unlisted_set {listed : Array Bool} {n i : Nat} (hi : i < n) (hs : i < listed.size) (hl : listed.getD i false = false) : unlisted listed n = unlisted (listed.setIfInBounds i true) n + 1 := by
  induction n with
  | zero => omega
  | succ n ih =>
    unfold unlisted at *
    rw [List.range_succ, List.filter_append, List.filter_append, List.length_append, List.length_append]
    by_cases h : i = n
    · subst h
      have e : (List.range i).filter (fun j => !listed.getD j false) = (List.range i).filter (fun j => !(listed.setIfInBounds i true).getD j false) := by
        refine List.filter_congr fun j hj => ?_
        rw [getD_set_ne false (by have := List.mem_range.1 hj; omega)]
      rw [e]
      have h1 : (listed.setIfInBounds i true).getD i false = true := by
        rw [Array.getD_eq_getD_getElem?, Array.getElem?_setIfInBounds_self_of_lt hs]
        rfl
      rw [List.filter_cons, List.filter_cons, hl, h1]
      simp
    · have h2 := ih (by omega)
      rw [h2]
      simp only [List.filter_cons, List.filter_nil]
      rw [getD_set_ne false h]
      omega

theorem unlisted_zero {listed : Array Bool} {n : Nat} (h : unlisted listed n = 0) : ∀ j, j < n → listed.getD j false = true := fun j hj => by
  have h1 : (List.range n).filter (fun i => !listed.getD i false) = [] := List.length_eq_zero_iff.1 h
  have h2 := List.filter_eq_nil_iff.1 h1 j (List.mem_range.2 hj)
  simpa using h2

/-- The least of them. -/
theorem unlisted_least {listed : Array Bool} : ∀ {n : Nat}, unlisted listed n ≠ 0 → ∃ i, i < n ∧ listed.getD i false = false ∧ ∀ j, j < i → listed.getD j false = true := by
  intro n h
  have h1 : ∃ i, i < n ∧ listed.getD i false = false := by
    apply Classical.byContradiction
    intro hno
    apply h
    unfold unlisted
    rw [List.length_eq_zero_iff, List.filter_eq_nil_iff]
    intro i hi
    have := List.mem_range.1 hi
    cases hb : listed.getD i false with
    | true => simp
    | false => exact absurd ⟨i, this, hb⟩ hno
  obtain ⟨i, hi, hb⟩ := h1
  induction i using Nat.strongRecOn with
  | _ i ih =>
    by_cases hc : ∃ j, j < i ∧ listed.getD j false = false
    · obtain ⟨j, hj, hb'⟩ := hc
      exact ih j hj (by omega) hb'
    · refine ⟨i, hi, hb, fun j hj => ?_⟩
      cases hb' : listed.getD j false with
      | true => rfl
      | false => exact absurd ⟨j, hj, hb'⟩ hc

/-- What growB says of one of the first n. -/
theorem growB_at {n size i : Nat} (hB : growB ops n size = true) (hi : i < n) : ∃ o d, ops[i]? = some o ∧ o.guard = none ∧ o.dst = some d ∧ d < size ∧ (∀ e ∈ o.after, Region.binds .any e = true → e.on < i) ∧
    (∀ j, j < n → i ≠ j → dstOf ops i ≠ dstOf ops j) ∧ (∀ j, j < n → i ≠ j → ∀ d, dstOf ops j = some d → d ∈ o.looksAt ops → j < i ∧ Region.waitsFor .any ops i j = true) := by
  simp only [growB, Bool.and_eq_true] at hB
  have h := List.all_eq_true.1 hB.2 i (List.mem_range.2 hi)
  cases ho : ops[i]? with
  | none => rw [ho] at h; simp at h
  | some o =>
    rw [ho] at h
    simp only [Bool.and_eq_true] at h
    obtain ⟨⟨⟨h1, h2⟩, h3⟩, h4⟩ := h
    cases hd : o.dst with
    | none => rw [hd] at h2; simp at h2
    | some d =>
      rw [hd] at h2
      refine ⟨o, d, rfl, by simpa using h1, hd, by simpa using h2, fun e he hb => ?_, fun j hj hij => ?_, fun j hj hij d' hd' hm => ?_⟩
      · have := Array.all_eq_true'.1 h3 e he
        rw [hb] at this
        simpa using this
      · have := List.all_eq_true.1 h4 j (List.mem_range.2 hj)
        simp only [Bool.or_eq_true, decide_eq_true_eq, Bool.and_eq_true] at this
        rcases this with h5 | h5
        · exact absurd h5 hij
        · simpa using h5.1
      · have := List.all_eq_true.1 h4 j (List.mem_range.2 hj)
        simp only [Bool.or_eq_true, decide_eq_true_eq, Bool.and_eq_true] at this
        rcases this with h5 | h5
        · exact absurd h5 hij
        · have h6 := h5.2
          rw [hd'] at h6
          simp only [Bool.or_eq_true, Bool.and_eq_true, decide_eq_true_eq] at h6
          rcases h6 with h6 | h6
          · have : (Oper.looksAt ops o).contains d' = true := List.contains_iff_mem.2 hm
            rw [this] at h6
            simp at h6
          · exact h6

/-- The first n in whatever order, then those behind them. -/
theorem wpAny_grow {n : Nat} {R : Nat → Stay} {Q : Exit → Act → World → Prop} {a : Act} {w0 : World} (hB : growB ops n a.tmps.size = true)
    (hop : ∀ i, i < n → ∀ o, ops[i]? = some o → ∀ vs w, Below w0.heap.size w0 w → (∀ j, j < i → Region.waitsFor .any ops i j = true → (R j).p (vs j) w) →
      growsUpon P (R i).p w ((execOp (putsL ops (fun j => decide (j < i)) vs a n).eval o).run P w))
    (hend : ∀ vs w, Below w0.heap.size w0 w → (∀ j, j < n → (R j).p (vs j) w) → wpList P ops Q (ops.toList.drop n) (putsL ops (fun _ => true) vs a n) w) :
    ∀ (m : Nat) (listed : Array Bool) (vs : Nat → Value) (w : World), unlisted listed n = m → HeadInv .any ops n listed → Below w0.heap.size w0 w → (∀ j, j < n → listed.getD j false = true → (R j).p (vs j) w) →
      wpAny P .any ops Q (m + (ops.size - n)) listed (putsL ops (fun j => listed.getD j false) vs a n) w := by
  have hB0 := hB
  simp only [growB, Bool.and_eq_true, decide_eq_true_eq] at hB0
  obtain ⟨⟨⟨⟨⟨hsel, hn⟩, hs⟩, hc⟩, hseq⟩, -⟩ := hB0
  intro m
  induction m with
  | zero =>
    intro listed vs w hu inv hb hr
    have hall := unlisted_zero hu
    have hlen : (ops.toList.drop n).length = ops.size - n := by simp
    have hl : listed = (List.range n).foldl (fun l i => l.setIfInBounds i true) (Array.replicate ops.size false) := by
      obtain ⟨-, h2⟩ := foldl_set_get n 0 (Array.replicate ops.size false) (by simp; omega)
      apply Array.ext
      · rw [h2, inv.size]; simp
      · intro j hj hj'
        have e1 : listed.getD j false = listed[j] := by simp [hj]
        have e2 := (foldl_set_get n j (Array.replicate ops.size false) (by simp; omega)).1
        have e3 : ((List.range n).foldl (fun l i => l.setIfInBounds i true) (Array.replicate ops.size false)).getD j false = ((List.range n).foldl (fun l i => l.setIfInBounds i true) (Array.replicate ops.size false))[j] := by simp only [Array.getD_eq_getD_getElem?, Array.getElem?_eq_getElem hj', Option.getD_some]
        rw [← e1, ← e3, e2, getD_replicate_false, Bool.or_false]
        by_cases hjn : j < n
        · rw [hall j hjn, decide_eq_true hjn]
        · rw [decide_eq_false hjn]
          exact getD_both (inv.tail j (by omega) (by rw [inv.size] at hj; exact hj))
    rw [Nat.zero_add, ← hlen]
    refine wpAny_of_seq (ops.toList.drop n) n listed _ w (fun j => by rw [List.getElem?_drop]; simp) (by rw [hlen, hl]; exact hseq) ?_
    rw [putsL_congr (L' := fun _ => true) (vs' := vs) n (fun j hj => ⟨hall j hj, fun _ => rfl⟩)]
    exact hend vs w hb (fun j hj => hr j hj (hall j hj))
  | succ m ih =>
    intro listed vs w hu inv hb hr
    rw [show m + 1 + (ops.size - n) = (m + (ops.size - n)) + 1 by omega]
    obtain ⟨k, hk, hkl, hkb⟩ := unlisted_least (listed := listed) (n := n) (by omega)
    have hks : k < listed.size := by rw [inv.size]; omega
    refine ⟨fun h0 => ?_, fun i hi => ?_⟩
    · obtain ⟨o, d, ho, _, _, _, haf, _, _⟩ := growB_at hB hk
      have : k ∈ Region.ready .any ops listed := mem_ready.2 ⟨getD_in hks hkl, o, ho, fun e he hbd => hkb _ (haf e he hbd)⟩
      rw [h0] at this
      cases this
    · obtain ⟨hiun, oi, hoi, hall⟩ := mem_ready.1 hi
      have hin : i < n := by
        rcases Nat.lt_or_ge i n with h | h
        · exact h
        · exact absurd hi (tail_waits hs hc hn inv _ k rfl hk (getD_in hks hkl) i h)
      obtain ⟨o, d, ho, hg, hd, hds, haf, hdn, hlk⟩ := growB_at hB hin
      obtain rfl : oi = o := Option.some.inj (hoi.symm.trans ho)
      have hilf : listed.getD i false = false := getD_both hiun
      have his : i < listed.size := by rw [inv.size]; omega
      unfold wpOp
      simp only [hoi]
      rw [if_pos (by simp [Region.wanted, hg])]
      refine .inl (wp_of_grows (b := putsL ops (fun j => decide (j < i)) vs a n) (R := (R i).p) ?_ (hop i hin oi hoi vs w hb fun j hj hw => ?_) ?_)
      · refine execOp_congr oi (fun cs b => Region.noSelect_spec hsel i oi cs b hoi) fun x hx => eval_putsL n fun j hj => ?_
        by_cases hd' : ∀ d, dstOf ops j = some d → x ≠ .tmp d
        · exact .inl hd'
        · refine .inr ⟨?_, rfl⟩
          have hd2 : ∃ d, dstOf ops j = some d ∧ x = .tmp d := by
            apply Classical.byContradiction
            intro hno
            exact hd' fun d hd hx => hno ⟨d, hd, hx⟩
          obtain ⟨d', hj', rfl⟩ := hd2
          by_cases hij : i = j
          · subst hij
            rw [hilf, decide_eq_false (by omega)]
          · obtain ⟨hji, hw⟩ := hlk j hj hij d' hj' (List.mem_append_left _ (List.mem_filterMap.2 ⟨.tmp d', by simpa using hx, rfl⟩))
            obtain ⟨o', ho', e, he, hbd, hon⟩ := Region.waitsFor_spec hw
            obtain rfl : oi = o' := Option.some.inj (hoi.symm.trans ho')
            have := hall e he hbd
            rw [hon] at this
            rw [this, decide_eq_true hji]
      · obtain ⟨o', ho', e, he, hbd, hon⟩ := Region.waitsFor_spec hw
        obtain rfl : oi = o' := Option.some.inj (hoi.symm.trans ho')
        have := hall e he hbd
        rw [hon] at this
        exact hr j (by omega) this
      · intro v w' hbw hrv
        have hdo : dstOf ops i = oi.dst := by simp [dstOf, hoi]
        have hb' : Below w0.heap.size w0 w' := hb.trans (hbw.mono hb.size)
        have hput := (putsL_put (ops := ops) (L := fun j => listed.getD j false) (vs := vs) (a := a) (i := i) (v := v) (n := n) hilf (fun j hjn hj d' hd' => fun h => hdn j hjn (Ne.symm hj) (by rw [hd', h])) n (Nat.le_refl _)).1 hin
        rw [← hdo, hput]
        have e := putsL_congr (ops := ops) (L := fun j => listed.getD j false || decide (j = i)) (L' := fun j => (listed.setIfInBounds i true).getD j false) (vs := fun j => if j = i then v else vs j) (vs' := fun j => if j = i then v else vs j) (a := a) n (fun j hj => ⟨by
          by_cases hji : j = i
          · subst hji
            rw [Array.getD_eq_getD_getElem? (xs := listed.setIfInBounds j true), Array.getElem?_setIfInBounds_self_of_lt his]
            simp
          · rw [getD_set_ne false (Ne.symm hji)]
            simp [hji], fun _ => rfl⟩)
        rw [e]
        refine ih _ _ w' (by have := unlisted_set hin his hilf; omega) (inv.set hi hin) hb' fun j hj hl => ?_
        by_cases hji : j = i
        · subst hji
          rw [if_pos rfl]
          exact hrv
        · rw [if_neg hji]
          rw [getD_set_ne false (Ne.symm hji)] at hl
          exact (R j).mono (hr j hj hl) hbw
end

/-- The first i put in the order of the text. -/
def putsT : List Oper → (Nat → Value) → Act → Nat → Act
  | [], _, a, _ => a
  | o :: l, vs, a, k => putsT l vs (a.put o.dst (vs k)) (k + 1)

theorem putsT_snoc : ∀ (l : List Oper) (o : Oper) (vs : Nat → Value) (a : Act) (k : Nat), putsT (l ++ [o]) vs a k = (putsT l vs a k).put o.dst (vs (k + l.length))
  | [], _, _, _, _ => rfl
  | p :: l, o, vs, a, k => by
    rw [List.cons_append, putsT, putsT, putsT_snoc l o vs _ (k + 1), List.length_cons, show k + 1 + l.length = k + (l.length + 1) by omega]

theorem putsL_text {l : List Oper} {vs : Nat → Value} {a : Act} {i : Nat} : ∀ n, i ≤ n → n ≤ l.length → putsL l.toArray (fun j => decide (j < i)) vs a n = putsT (l.take i) vs a 0
  | 0, hi, _ => by
    obtain rfl : i = 0 := by omega
    rfl
  | n + 1, hi, hl => by
    by_cases h : i = n + 1
    · subst h
      unfold putsL
      rw [if_pos (by simp), putsL_congr (L' := fun j => decide (j < n)) (vs' := vs) n (fun j hj => ⟨by simp [hj]; omega, fun _ => rfl⟩), putsL_text n (Nat.le_refl _) (by omega)]
      have hn : n < l.length := by omega
      rw [List.take_succ_eq_append_getElem hn, putsT_snoc, Nat.zero_add, List.length_take, Nat.min_eq_left (by omega)]
      simp [hn]
    · unfold putsL
      rw [if_neg (by simp; omega)]
      exact putsL_text n (by omega) (by omega)

/-- A region that draws: what each of the first n is asked, in whatever world it may come up; what is behind them. -/
theorem wp_region_grow {id : Nat} {Q : Exit → Act → World → Prop} {a : Act} {w : World} {l : List Oper} (n : Nat) (R : List Stay) (hm : P.follows .mixedOrders = true) (hB : growB l.toArray n a.tmps.size = true)
    (hop : ∀ i, i < n → ∀ o, l[i]? = some o → ∀ (vs : Nat → Value) (w' : World), Below w.heap.size w w' → (∀ j, j < i → Region.waitsFor .any l.toArray i j = true → (R.getD j Stay.free).p (vs j) w') →
      ∀ K : Act → World → Prop, (∀ v w'', Below w'.heap.size w' w'' → (R.getD i Stay.free).p v w'' → K ((putsT (l.take i) vs a 0).put o.dst v) w'') → wpList P #[o] (fun e a w => e = .normal ∧ K a w) [o] (putsT (l.take i) vs a 0) w')
    (hend : ∀ (vs : Nat → Value) (w' : World), Below w.heap.size w w' → (∀ j, j < n → (R.getD j Stay.free).p (vs j) w') → wpList P l.toArray Q (l.drop n) (putsT (l.take n) vs a 0) w') :
    (Code.region id l.toArray true).wp P Q a w := by
  have hn : n < l.length := by
    have h := hB
    simp only [growB, Bool.and_eq_true, decide_eq_true_eq] at h
    simpa using h.1.1.1.1.2
  have hd : Below w.heap.size w w.drew := (Below.refl _ _).drew
  refine wp_region_any hm ?_
  have inv0 : HeadInv .any l.toArray n (Array.replicate l.toArray.size false) :=
    ⟨by simp, fun j oj _ hl => (by rw [getD_replicate_false] at hl; cases hl), fun t _ ht => getD_in (by simpa using ht) (getD_replicate_false _ _)⟩
  have hu : unlisted (Array.replicate l.toArray.size false) n = n := by
    unfold unlisted
    rw [List.filter_eq_self.2 (fun j _ => by rw [getD_replicate_false]; rfl), List.length_range]
  have H := wpAny_grow (P := P) (ops := l.toArray) (n := n) (R := fun j => R.getD j Stay.free) (Q := Q) (a := a) (w0 := w.drew) hB (fun i hi o ho vs w' hb hr => by
      rw [putsL_text n (by omega) (by omega)]
      obtain ⟨o', d, ho', hg, hdo, hds, -⟩ := growB_at hB hi
      obtain rfl : o = o' := Option.some.inj (ho.symm.trans ho')
      have hsz : (putsT (l.take i) vs a 0).tmps.size = a.tmps.size := by rw [← putsL_text n (by omega) (by omega), putsL_size]
      exact grows_of_wp hdo (by rw [hsz]; exact hds) hg (hop i hi o (by simpa using ho) vs w' (hd.trans hb) hr))
    (fun vs w' hb hr => by
      rw [putsL_congr (L' := fun j => decide (j < n)) (vs' := vs) n (fun j hj => ⟨by simp [hj], fun _ => rfl⟩), putsL_text n (Nat.le_refl _) (by omega)]
      exact hend vs w' (hd.trans hb) hr)
    n (Array.replicate l.toArray.size false) (fun _ => undef) w.drew hu inv0 (Below.refl _ _) (fun j hj h => by rw [getD_replicate_false] at h; cases h)
  rw [show n + (l.toArray.size - n) = l.toArray.size by simp; omega] at H
  rw [putsL_congr (L' := fun j => decide (j < 0)) (vs' := fun _ => undef) n (fun j hj => ⟨by rw [getD_replicate_false]; simp, fun _ => rfl⟩), putsL_text n (Nat.zero_le _) (by omega)] at H
  exact H
end

end Go.Proofs.YtbaijmkghgnleaaGreatDoor

namespace Go.Proofs.YtbaijmkghgnleaaGreatDoor
open Go.RowKit
set_option linter.unusedVariables false

set_option maxRecDepth 10000 in
set_option maxHeartbeats 6400000 in
theorem specAsk_any (m : Int) (a : Option Addr) (len ca : Nat) (xs : List Fld) (s op : Int) (x : ByteArray) (n : Int) (b o L C : Nat) (zs : List Int) (most : Int) (w : World) (hx : Flds w a len xs) (hl : len + fldBytes xs ≤ 2097152) (hs : Seg w (some ⟨b, o, none⟩) L zs) (hC : L ≤ C) (hL : L ≤ 1048576) (hsz : x.size ≤ 9223372036854775807) (hF : reqB op x.data.toList n = true → fldBytes (fieldsR op x n) ≤ 100000) :
    Calls Tryz.prog 6 #[.agg #[.int .i64 m, .slice a len ca], .int .i64 s, .agg #[.int .i64 op, .string x, .int .i64 n], .slice (some ⟨b, o, none⟩) L C, .int .i64 most] w fun e w' => AskAns m xs s op x n zs most w.heap.size e w' ∧ Below w.heap.size w w' := by
  obtain ⟨i0, hi0, hy0, hy1, hy2⟩ := info_parts Tryz.info5
  have HZl : Hid (zs.length = L) := hs.1
  have HFl : Hid (reqB op x.data.toList n = true → fldBytes (fieldsR op x n) ≤ 100000) := hF
  obtain ⟨w2, hw2⟩ : ∃ w2, ((w.alloc (.cells #[.int .i64 m, .slice a len ca] 32)).alloc (.cells #[.int .i64 op, .string x, .int .i64 n] 36)).alloc (.cells #[.int .i64 0, .slice none 0 0] 32) = w2 := ⟨_, rfl⟩
  have HE : Hid (((w.alloc (.cells #[.int .i64 m, .slice a len ca] 32)).alloc (.cells #[.int .i64 op, .string x, .int .i64 n] 36)).alloc (.cells #[.int .i64 0, .slice none 0 0] 32) = w2) := hw2
  have q1 : BoxN w2 w.heap.size 32 [.int .i64 m, .slice a len ca] := by rw [← hw2]; exact ((BoxN.new _ _ _).alloc _).alloc _
  have q2 : BoxN w2 (w.heap.size + 1) 36 [.int .i64 op, .string x, .int .i64 n] := by
    rw [← hw2]
    have := (BoxN.new (w.alloc (.cells #[.int .i64 m, .slice a len ca] 32)) 36 [.int .i64 op, .string x, .int .i64 n]).alloc (.cells #[.int .i64 0, .slice none 0 0] 32)
    rwa [World.size_alloc] at this
  have q3 : BoxN w2 (w.heap.size + 2) 32 [.int .i64 0, .slice none 0 0] := by
    rw [← hw2]
    have := BoxN.new ((w.alloc (.cells #[.int .i64 m, .slice a len ca] 32)).alloc (.cells #[.int .i64 op, .string x, .int .i64 n] 36)) 32 [.int .i64 0, .slice none 0 0]
    rwa [World.size_alloc, World.size_alloc] at this
  have hB2 : Below w.heap.size w w2 := by rw [← hw2]; exact (((Below.refl _ _).alloc (Nat.le_refl _) _).alloc (by simp) _).alloc (by simp; omega) _
  have hz2 : w2.heap.size = w.heap.size + 3 := by rw [← hw2]; simp
  have HQ : Hid (∀ W, Below w2.heap.size w2 W → BoxN W w.heap.size 32 [.int .i64 m, .slice a len ca] ∧ BoxN W (w.heap.size + 1) 36 [.int .i64 op, .string x, .int .i64 n] ∧ BoxN W (w.heap.size + 2) 32 [.int .i64 0, .slice none 0 0] ∧ Flds W a len xs ∧ Seg W (some ⟨b, o, none⟩) L zs ∧ Below w.heap.size w W) := fun W h =>
    have hb := hB2.trans (h.mono hB2.size)
    ⟨q1.stays h, q2.stays h, q3.stays h, hx.below hb, hs.below hb, hb⟩
  have HZ2 : Hid (w2.heap.size = w.heap.size + 3) := hz2
  have hxl : xs.length = len := hx.1
  have HXl : Hid (xs.length = len) := hxl
  have HA2 : Hid (Below w2.heap.size w2 w2) := Below.refl _ _
  clear hw2 q1 q2 q3 hB2 hz2 hx hs hF hxl
  have c0 := (HQ.out _ HA2.out).1.cell 0 rfl
  have c1 := (HQ.out _ HA2.out).1.cell 1 rfl
  go_enter Tryz.func6, Tryz.ntmps6
  go_upto_region 1 with fail
  rw [HE.out]
  clear HE
  go_wp2_with fail
  refine (specOk_any m a len ca xs w2 (HQ.out _ HA2.out).2.2.2.1 hl).mono ?_
  rintro e w3 ⟨rfl, hb3⟩
  have Hw3 : Hid (Below w2.heap.size w2 w3) := hb3
  clear hb3 c0 c1
  cases hok : okT m xs with
  | false =>
    have hno : ¬ (okT m xs = true ∧ reqB op x.data.toList n = true ∧ 1 ≤ s ∧ s ≤ 2147483647) := by rw [hok]; simp
    clear hok
    have d0 := (HQ.out _ Hw3.out).2.1.cell 0 rfl
    have d1 := (HQ.out _ Hw3.out).2.1.cell 1 rfl
    have d2 := (HQ.out _ Hw3.out).2.1.cell 2 rfl
    clear d0 d1 d2
    have HNo : Hid (¬ (okT m xs = true ∧ reqB op x.data.toList n = true ∧ 1 ≤ s ∧ s ≤ 2147483647)) := hno
    have hbz : Below w2.heap.size w2 (w3.alloc (.cells #[] 5)) := Hw3.out.alloc Hw3.out.size _
    have c0 := (HQ.out _ hbz).1.cell 0 rfl
    have c1 := (HQ.out _ hbz).1.cell 1 rfl
    have HCp : Hid (Calls Tryz.prog 21 #[.agg #[.int .i64 m, .slice a len ca]] (w3.alloc (.cells #[] 5)) fun e w' => ∃ a' c', e = .returned (.agg #[.int .i64 m, .slice a' len c']) ∧ OwnF w' (w3.alloc (.cells #[] 5)).heap.size (.slice a' len c') len xs ∧ Below (w3.alloc (.cells #[] 5)).heap.size (w3.alloc (.cells #[] 5)) w') := by
      refine (specCopy_any m a len ca xs _ (HQ.out _ hbz).2.2.2.1 (by omega)).mono ?_
      rintro e w' ⟨v, rfl, ho, hb⟩
      obtain ⟨a', c', rfl⟩ := ho.shape
      exact ⟨a', c', rfl, ho, hb⟩
    have hzW : w.heap.size + 3 ≤ w3.heap.size := by have := Hw3.out.size; have := HZ2.out; omega
    have HRow : Hid (Owns (w3.alloc (.cells #[] 5)) w3.heap.size (some ⟨w3.heap.size, 0, none⟩) 0 0 []) := ⟨World.ownsRow_lit w3 #[] 0 (Nat.le_refl _) (Nat.zero_le _) rfl, by simp⟩
    have HBz : Hid (Below w2.heap.size w2 (w3.alloc (.cells #[] 5))) := hbz
    clear hbz hno
    go_wp2_with fail
    refine HCp.out.mono ?_
    rintro e w5 ⟨a5, c5, rfl, ho5, hb5⟩
    have HR5 : Hid (BoxN w5 (w.heap.size + 2) 32 [.int .i64 0, .slice none 0 0] ∧ Below w.heap.size w w5) := by
      have h := HQ.out _ (HBz.out.trans (hb5.mono HBz.out.size))
      exact ⟨h.2.2.1, h.2.2.2.2.2⟩
    have g0 := HR5.out.1.cell 0 rfl
    have g1 := HR5.out.1.cell 1 rfl
    have f0 := HR5.out.1.frozen 0
    have f1 := HR5.out.1.frozen 1
    have HF5 : Hid (OwnF ((w5.setCell ⟨w.heap.size + 2, 0, none⟩ (.int .i64 m)).setCell ⟨w.heap.size + 2, 1, none⟩ (.slice a5 len c5)) w.heap.size (.slice a5 len c5) len xs ∧ Owns ((w5.setCell ⟨w.heap.size + 2, 0, none⟩ (.int .i64 m)).setCell ⟨w.heap.size + 2, 1, none⟩ (.slice a5 len c5)) w.heap.size (some ⟨w3.heap.size, 0, none⟩) 0 0 [] ∧ Below w.heap.size w ((w5.setCell ⟨w.heap.size + 2, 0, none⟩ (.int .i64 m)).setCell ⟨w.heap.size + 2, 1, none⟩ (.slice a5 len c5))) := by
      have h1 := own_apart (t := 32) (by decide) ho5.1 HR5.out.1
      have h0 := HRow.out.below hb5
      have h2 := own_apart (t := 32) (by decide) h0.1 HR5.out.1
      have hsz2 : w.heap.size ≤ (w3.alloc (.cells #[] 5)).heap.size := by rw [World.size_alloc]; omega
      refine ⟨⟨own_down (own_put (own_put ho5.1 h1) h1) hsz2, ho5.2⟩, ⟨own_down (own_put (own_put h0.1 h2) h2) (by omega), h0.2⟩, ?_⟩
      repeat (refine Below.setCell ?_ (by dsimp only; omega) _)
      exact HR5.out.2
    clear ho5 hb5 HR5 HCp HRow c0 c1
    go_wp2_with fail
    refine bodyPost_ret (v := .tuple #[.slice (some ⟨w3.heap.size, 0, none⟩) 0 0, .agg #[.int .i64 m, .slice a5 len c5]]) (by simp [results, Tryz.f6, go_sem, g0, g1]) rfl ?_
    exact ⟨⟨[], xs, _, _, _, _, _, rfl, .inr ⟨HNo.out, rfl, rfl⟩, HF5.out.2.1, HF5.out.1⟩, HF5.out.2.2⟩
  | true =>
    have HOk : Hid (okT m xs = true) := hok
    clear hok
    have c0 := (HQ.out _ Hw3.out).2.1.cell 0 rfl
    have c1 := (HQ.out _ Hw3.out).2.1.cell 1 rfl
    have c2 := (HQ.out _ Hw3.out).2.1.cell 2 rfl
    go_wp2_with fail
    refine (specReqOk_any op x n w3 hsz).mono ?_
    rintro e w4 ⟨rfl, hb4⟩
    have Hw4 : Hid (Below w2.heap.size w2 w4) := Hw3.out.trans (hb4.mono Hw3.out.size)
    clear hb4 c0 c1 c2
    cases hrq : reqB op x.data.toList n with
    | false =>
      have hno : ¬ (okT m xs = true ∧ reqB op x.data.toList n = true ∧ 1 ≤ s ∧ s ≤ 2147483647) := by rw [hrq]; simp
      clear hrq
      have HNo : Hid (¬ (okT m xs = true ∧ reqB op x.data.toList n = true ∧ 1 ≤ s ∧ s ≤ 2147483647)) := hno
      have hbz : Below w2.heap.size w2 (w4.alloc (.cells #[] 5)) := Hw4.out.alloc Hw4.out.size _
      have c0 := (HQ.out _ hbz).1.cell 0 rfl
      have c1 := (HQ.out _ hbz).1.cell 1 rfl
      have HCp : Hid (Calls Tryz.prog 21 #[.agg #[.int .i64 m, .slice a len ca]] (w4.alloc (.cells #[] 5)) fun e w' => ∃ a' c', e = .returned (.agg #[.int .i64 m, .slice a' len c']) ∧ OwnF w' (w4.alloc (.cells #[] 5)).heap.size (.slice a' len c') len xs ∧ Below (w4.alloc (.cells #[] 5)).heap.size (w4.alloc (.cells #[] 5)) w') := by
        refine (specCopy_any m a len ca xs _ (HQ.out _ hbz).2.2.2.1 (by omega)).mono ?_
        rintro e w' ⟨v, rfl, ho, hb⟩
        obtain ⟨a', c', rfl⟩ := ho.shape
        exact ⟨a', c', rfl, ho, hb⟩
      have hzW : w.heap.size + 3 ≤ w4.heap.size := by have := Hw4.out.size; have := HZ2.out; omega
      have HRow : Hid (Owns (w4.alloc (.cells #[] 5)) w4.heap.size (some ⟨w4.heap.size, 0, none⟩) 0 0 []) := ⟨World.ownsRow_lit w4 #[] 0 (Nat.le_refl _) (Nat.zero_le _) rfl, by simp⟩
      have HBz : Hid (Below w2.heap.size w2 (w4.alloc (.cells #[] 5))) := hbz
      clear hbz hno
      go_wp2_with fail
      refine HCp.out.mono ?_
      rintro e w5 ⟨a5, c5, rfl, ho5, hb5⟩
      have HR5 : Hid (BoxN w5 (w.heap.size + 2) 32 [.int .i64 0, .slice none 0 0] ∧ Below w.heap.size w w5) := by
        have h := HQ.out _ (HBz.out.trans (hb5.mono HBz.out.size))
        exact ⟨h.2.2.1, h.2.2.2.2.2⟩
      have g0 := HR5.out.1.cell 0 rfl
      have g1 := HR5.out.1.cell 1 rfl
      have f0 := HR5.out.1.frozen 0
      have f1 := HR5.out.1.frozen 1
      have HF5 : Hid (OwnF ((w5.setCell ⟨w.heap.size + 2, 0, none⟩ (.int .i64 m)).setCell ⟨w.heap.size + 2, 1, none⟩ (.slice a5 len c5)) w.heap.size (.slice a5 len c5) len xs ∧ Owns ((w5.setCell ⟨w.heap.size + 2, 0, none⟩ (.int .i64 m)).setCell ⟨w.heap.size + 2, 1, none⟩ (.slice a5 len c5)) w.heap.size (some ⟨w4.heap.size, 0, none⟩) 0 0 [] ∧ Below w.heap.size w ((w5.setCell ⟨w.heap.size + 2, 0, none⟩ (.int .i64 m)).setCell ⟨w.heap.size + 2, 1, none⟩ (.slice a5 len c5))) := by
        have h1 := own_apart (t := 32) (by decide) ho5.1 HR5.out.1
        have h0 := HRow.out.below hb5
        have h2 := own_apart (t := 32) (by decide) h0.1 HR5.out.1
        have hsz2 : w.heap.size ≤ (w4.alloc (.cells #[] 5)).heap.size := by rw [World.size_alloc]; omega
        refine ⟨⟨own_down (own_put (own_put ho5.1 h1) h1) hsz2, ho5.2⟩, ⟨own_down (own_put (own_put h0.1 h2) h2) (by omega), h0.2⟩, ?_⟩
        repeat (refine Below.setCell ?_ (by dsimp only; omega) _)
        exact HR5.out.2
      clear ho5 hb5 HR5 HCp HRow c0 c1
      go_wp2_with fail
      refine bodyPost_ret (v := .tuple #[.slice (some ⟨w4.heap.size, 0, none⟩) 0 0, .agg #[.int .i64 m, .slice a5 len c5]]) (by simp [results, Tryz.f6, go_sem, g0, g1]) rfl ?_
      exact ⟨⟨[], xs, _, _, _, _, _, rfl, .inr ⟨HNo.out, rfl, rfl⟩, HF5.out.2.1, HF5.out.1⟩, HF5.out.2.2⟩
    | true =>
      have HRq : Hid (reqB op x.data.toList n = true) := hrq
      clear hrq
      go_wp2_with fail
      refine (l1In_any s 1 2147483647 w4).mono ?_
      rintro e w5 ⟨rfl, hw5⟩
      have hw5 := hw5.symm
      subst hw5
      by_cases hst : 1 ≤ s ∧ s ≤ 2147483647
      case neg =>
        have hno : ¬ (okT m xs = true ∧ reqB op x.data.toList n = true ∧ 1 ≤ s ∧ s ≤ 2147483647) := fun h => hst h.2.2
        rw [decide_eq_false hst]
        clear hst
        have HNo : Hid (¬ (okT m xs = true ∧ reqB op x.data.toList n = true ∧ 1 ≤ s ∧ s ≤ 2147483647)) := hno
        have hbz : Below w2.heap.size w2 (w4.alloc (.cells #[] 5)) := Hw4.out.alloc Hw4.out.size _
        have c0 := (HQ.out _ hbz).1.cell 0 rfl
        have c1 := (HQ.out _ hbz).1.cell 1 rfl
        have HCp : Hid (Calls Tryz.prog 21 #[.agg #[.int .i64 m, .slice a len ca]] (w4.alloc (.cells #[] 5)) fun e w' => ∃ a' c', e = .returned (.agg #[.int .i64 m, .slice a' len c']) ∧ OwnF w' (w4.alloc (.cells #[] 5)).heap.size (.slice a' len c') len xs ∧ Below (w4.alloc (.cells #[] 5)).heap.size (w4.alloc (.cells #[] 5)) w') := by
          refine (specCopy_any m a len ca xs _ (HQ.out _ hbz).2.2.2.1 (by omega)).mono ?_
          rintro e w' ⟨v, rfl, ho, hb⟩
          obtain ⟨a', c', rfl⟩ := ho.shape
          exact ⟨a', c', rfl, ho, hb⟩
        have hzW : w.heap.size + 3 ≤ w4.heap.size := by have := Hw4.out.size; have := HZ2.out; omega
        have HRow : Hid (Owns (w4.alloc (.cells #[] 5)) w4.heap.size (some ⟨w4.heap.size, 0, none⟩) 0 0 []) := ⟨World.ownsRow_lit w4 #[] 0 (Nat.le_refl _) (Nat.zero_le _) rfl, by simp⟩
        have HBz : Hid (Below w2.heap.size w2 (w4.alloc (.cells #[] 5))) := hbz
        clear hbz hno
        go_wp2_with fail
        refine HCp.out.mono ?_
        rintro e w5 ⟨a5, c5, rfl, ho5, hb5⟩
        have HR5 : Hid (BoxN w5 (w.heap.size + 2) 32 [.int .i64 0, .slice none 0 0] ∧ Below w.heap.size w w5) := by
          have h := HQ.out _ (HBz.out.trans (hb5.mono HBz.out.size))
          exact ⟨h.2.2.1, h.2.2.2.2.2⟩
        have g0 := HR5.out.1.cell 0 rfl
        have g1 := HR5.out.1.cell 1 rfl
        have f0 := HR5.out.1.frozen 0
        have f1 := HR5.out.1.frozen 1
        have HF5 : Hid (OwnF ((w5.setCell ⟨w.heap.size + 2, 0, none⟩ (.int .i64 m)).setCell ⟨w.heap.size + 2, 1, none⟩ (.slice a5 len c5)) w.heap.size (.slice a5 len c5) len xs ∧ Owns ((w5.setCell ⟨w.heap.size + 2, 0, none⟩ (.int .i64 m)).setCell ⟨w.heap.size + 2, 1, none⟩ (.slice a5 len c5)) w.heap.size (some ⟨w4.heap.size, 0, none⟩) 0 0 [] ∧ Below w.heap.size w ((w5.setCell ⟨w.heap.size + 2, 0, none⟩ (.int .i64 m)).setCell ⟨w.heap.size + 2, 1, none⟩ (.slice a5 len c5))) := by
          have h1 := own_apart (t := 32) (by decide) ho5.1 HR5.out.1
          have h0 := HRow.out.below hb5
          have h2 := own_apart (t := 32) (by decide) h0.1 HR5.out.1
          have hsz2 : w.heap.size ≤ (w4.alloc (.cells #[] 5)).heap.size := by rw [World.size_alloc]; omega
          refine ⟨⟨own_down (own_put (own_put ho5.1 h1) h1) hsz2, ho5.2⟩, ⟨own_down (own_put (own_put h0.1 h2) h2) (by omega), h0.2⟩, ?_⟩
          repeat (refine Below.setCell ?_ (by dsimp only; omega) _)
          exact HR5.out.2
        clear ho5 hb5 HR5 HCp HRow c0 c1
        go_wp2_with fail
        refine bodyPost_ret (v := .tuple #[.slice (some ⟨w4.heap.size, 0, none⟩) 0 0, .agg #[.int .i64 m, .slice a5 len c5]]) (by simp [results, Tryz.f6, go_sem, g0, g1]) rfl ?_
        exact ⟨⟨[], xs, _, _, _, _, _, rfl, .inr ⟨HNo.out, rfl, rfl⟩, HF5.out.2.1, HF5.out.1⟩, HF5.out.2.2⟩
      have HSt : Hid (1 ≤ s ∧ s ≤ 2147483647) := hst
      rw [decide_eq_true hst]
      clear hst
      go_upto_region 3 with fail
      refine wp_region_grow 9 [Stay.val (.agg #[.int .i64 m, .slice a len ca]), Stay.val (.agg #[.int .i64 op, .string x, .int .i64 n]), ⟨fun v W => ∃ A C2, v = .slice A (fieldsR op x n).length C2 ∧ OwnF W w4.heap.size (.slice A (fieldsR op x n).length C2) (fieldsR op x n).length (fieldsR op x n), fun ⟨A, C2, h0, h1⟩ hb => ⟨A, C2, h0, h1.stays hb⟩⟩, ⟨fun v W => ∃ (q : List Int) (ys : List Fld) (a1 : Option Addr) (c1 : Nat) (av : Option Addr) (j cv : Nat), v = .tuple #[.slice a1 q.length c1, .agg #[.int .i64 m, .slice av j cv]] ∧ PutN (fieldsR op x n) m xs (fieldsR op x n).length q ys ∧ Owns W w4.heap.size a1 q.length c1 q ∧ OwnF W w4.heap.size (.slice av j cv) j ys, fun ⟨q, ys, a1, c1, av, j, cv, h0, h1, h2, h3⟩ hb => ⟨q, ys, a1, c1, av, j, cv, h0, h1, h2.below hb, h3.stays hb⟩⟩, ⟨fun v W => ∃ (q : List Int) (ys : List Fld) (a1 : Option Addr) (c1 : Nat) (av : Option Addr) (j cv : Nat), v = .tuple #[.slice a1 q.length c1, .agg #[.int .i64 m, .slice av j cv]] ∧ PutN (fieldsR op x n) m xs (fieldsR op x n).length q ys ∧ Owns W w4.heap.size a1 q.length c1 q ∧ OwnF W w4.heap.size (.slice av j cv) j ys, fun ⟨q, ys, a1, c1, av, j, cv, h0, h1, h2, h3⟩ hb => ⟨q, ys, a1, c1, av, j, cv, h0, h1, h2.below hb, h3.stays hb⟩⟩, ⟨fun v W => ∃ (q : List Int) (ys : List Fld) (a1 : Option Addr) (c1 : Nat), v = .slice a1 q.length c1 ∧ PutN (fieldsR op x n) m xs (fieldsR op x n).length q ys ∧ Owns W w4.heap.size a1 q.length c1 q, fun ⟨q, ys, a1, c1, h0, h1, h2⟩ hb => ⟨q, ys, a1, c1, h0, h1, h2.below hb⟩⟩, ⟨fun v W => ∃ (q : List Int) (ys : List Fld) (av : Option Addr) (j cv : Nat), v = .agg #[.int .i64 m, .slice av j cv] ∧ PutN (fieldsR op x n) m xs (fieldsR op x n).length q ys ∧ OwnF W w4.heap.size (.slice av j cv) j ys, fun ⟨q, ys, av, j, cv, h0, h1, h2⟩ hb => ⟨q, ys, av, j, cv, h0, h1, h2.stays hb⟩⟩, ⟨fun v W => ∃ p, v = .pointer (some ⟨p, 0, none⟩) ∧ w4.heap.size ≤ p ∧ BoxN W p 32 [.int .i64 0, .slice none 0 0], fun ⟨p, h0, h1, h2⟩ hb => ⟨p, h0, h1, h2.stays hb⟩⟩, ⟨fun v W => ∃ (q : List Int) (ys : List Fld) (a1 : Option Addr) (c1 : Nat), v = .slice a1 q.length c1 ∧ PutN (fieldsR op x n) m xs (fieldsR op x n).length q ys ∧ Owns W w4.heap.size a1 q.length c1 q, fun ⟨q, ys, a1, c1, h0, h1, h2⟩ hb => ⟨q, ys, a1, c1, h0, h1, h2.below hb⟩⟩] (by kernel_rfl) (by kernel_rfl) ?_ ?_
      · refine (all_succ (all_succ (all_succ (all_succ (all_succ (all_succ (all_succ (all_succ (all_succ all_zero ?g0) ?g1) ?g2) ?g3) ?g4) ?g5) ?g6) ?g7) ?g8)
        case g0 =>
          intro o ho vs W hb hd
          have HBW : Hid (Below w2.heap.size w2 W) := Hw4.out.trans (hb.mono Hw4.out.size)
          have HS : Hid (w4.heap.size ≤ W.heap.size) := hb.size
          have HXW : Hid (Below w4.heap.size w4 W) := hb
          clear hb
          obtain rfl := Option.some.inj ho
          clear ho hd
          have hq := (HQ.out _ HBW.out).1
          have c0 := hq.cell 0 rfl
          have c1 := hq.cell 1 rfl
          clear hq
          intro K hK
          simp only [List.take, putsT, put_mk, List.setIfInBounds_toArray, List.set_cons_succ, List.set_cons_zero] at hK ⊢
          have HK : Hid _ := hK
          clear hK
          go_wp2_with fail
          exact HK.out _ _ (Below.refl _ _) rfl
        case g1 =>
          intro o ho vs W hb hd
          have HBW : Hid (Below w2.heap.size w2 W) := Hw4.out.trans (hb.mono Hw4.out.size)
          have HS : Hid (w4.heap.size ≤ W.heap.size) := hb.size
          have HXW : Hid (Below w4.heap.size w4 W) := hb
          clear hb
          obtain rfl := Option.some.inj ho
          clear ho hd
          have hq := (HQ.out _ HBW.out).2.1
          have c0 := hq.cell 0 rfl
          have c1 := hq.cell 1 rfl
          have c2 := hq.cell 2 rfl
          clear hq
          intro K hK
          simp only [List.take, putsT, put_mk, List.setIfInBounds_toArray, List.set_cons_succ, List.set_cons_zero] at hK ⊢
          have HK : Hid _ := hK
          clear hK
          go_wp2_with fail
          exact HK.out _ _ (Below.refl _ _) rfl
        case g2 =>
          intro o ho vs W hb hd
          have HBW : Hid (Below w2.heap.size w2 W) := Hw4.out.trans (hb.mono Hw4.out.size)
          have HS : Hid (w4.heap.size ≤ W.heap.size) := hb.size
          have HXW : Hid (Below w4.heap.size w4 W) := hb
          clear hb
          obtain rfl := Option.some.inj ho
          have h1 : vs 1 = _ := hd 1 (by decide) (by kernel_rfl)
          clear ho hd
          intro K hK
          simp only [List.take, putsT, put_mk, List.setIfInBounds_toArray, List.set_cons_succ, List.set_cons_zero] at hK ⊢
          rw [h1] at hK ⊢
          clear h1
          have HK : Hid _ := hK
          clear hK
          go_wp2_with fail
          refine (specFields_any op x n W hsz).mono ?_
          rintro e w' ⟨A, C2, rfl, ho, hb⟩
          go_wp2_with fail
          exact HK.out _ _ hb ⟨A, C2, rfl, own_down ho.1 HS.out, ho.2⟩
        case g3 =>
          intro o ho vs W hb hd
          have HBW : Hid (Below w2.heap.size w2 W) := Hw4.out.trans (hb.mono Hw4.out.size)
          have HS : Hid (w4.heap.size ≤ W.heap.size) := hb.size
          have HXW : Hid (Below w4.heap.size w4 W) := hb
          clear hb
          obtain rfl := Option.some.inj ho
          have h0 : vs 0 = _ := hd 0 (by decide) (by kernel_rfl)
          obtain ⟨A, C2, h2, hA⟩ := hd 2 (by decide) (by kernel_rfl)
          clear ho hd
          intro K hK
          simp only [List.take, putsT, put_mk, List.setIfInBounds_toArray, List.set_cons_succ, List.set_cons_zero] at hK ⊢
          rw [h0, h2] at hK ⊢
          clear h0 h2
          have HK : Hid _ := hK
          clear hK
          have HAf : Hid _ := hA
          clear hA
          go_wp2_with fail
          refine (specPuts_any m a len ca xs A (fieldsR op x n).length C2 (fieldsR op x n) W (HQ.out _ HBW.out).2.2.2.1 (OwnF.flds HAf.out) (by have h1 := okT_short HOk.out; have h2 := HFl.out HRq.out; have h3 := fieldsR_len op x n; have h4 := HXl.out; omega)).mono ?_
          rintro e w' ⟨q, a1, c1, v1, j, ys, rfl, hp, ho, hf, hb⟩
          obtain ⟨av, cv, rfl⟩ := hf.shape
          go_wp2_with fail
          exact HK.out _ _ hb ⟨q, ys, a1, c1, av, j, cv, rfl, hp, ho.low HS.out, own_down hf.1 HS.out, hf.2⟩
        case g4 =>
          intro o ho vs W hb hd
          have HBW : Hid (Below w2.heap.size w2 W) := Hw4.out.trans (hb.mono Hw4.out.size)
          have HS : Hid (w4.heap.size ≤ W.heap.size) := hb.size
          have HXW : Hid (Below w4.heap.size w4 W) := hb
          clear hb
          obtain rfl := Option.some.inj ho
          obtain ⟨q, ys, a1, c1, av, j, cv, h3, hp, how, hf⟩ := hd 3 (by decide) (by kernel_rfl)
          clear ho hd
          intro K hK
          simp only [List.take, putsT, put_mk, List.setIfInBounds_toArray, List.set_cons_succ, List.set_cons_zero] at hK ⊢
          rw [h3] at hK ⊢
          clear h3
          have HK : Hid _ := hK
          clear hK
          have HP3 := hidden (And.intro hp (And.intro how hf))
          clear hp how hf
          go_wp2_with fail
          exact HK.out _ _ (Below.refl _ _) ⟨q, ys, a1, c1, av, j, cv, rfl, HP3.out⟩
        case g5 =>
          intro o ho vs W hb hd
          have HBW : Hid (Below w2.heap.size w2 W) := Hw4.out.trans (hb.mono Hw4.out.size)
          have HS : Hid (w4.heap.size ≤ W.heap.size) := hb.size
          have HXW : Hid (Below w4.heap.size w4 W) := hb
          clear hb
          obtain rfl := Option.some.inj ho
          obtain ⟨q, ys, a1, c1, av, j, cv, h4, hp, how, hf⟩ := hd 4 (by decide) (by kernel_rfl)
          clear ho hd
          intro K hK
          simp only [List.take, putsT, put_mk, List.setIfInBounds_toArray, List.set_cons_succ, List.set_cons_zero] at hK ⊢
          rw [h4] at hK ⊢
          clear h4
          have HK : Hid _ := hK
          clear hK
          have HP3 := hidden (And.intro hp how)
          clear hp how hf
          go_wp2_with fail
          exact HK.out _ _ (Below.refl _ _) ⟨q, ys, a1, c1, rfl, HP3.out⟩
        case g6 =>
          intro o ho vs W hb hd
          have HBW : Hid (Below w2.heap.size w2 W) := Hw4.out.trans (hb.mono Hw4.out.size)
          have HS : Hid (w4.heap.size ≤ W.heap.size) := hb.size
          have HXW : Hid (Below w4.heap.size w4 W) := hb
          clear hb
          obtain rfl := Option.some.inj ho
          obtain ⟨q, ys, a1, c1, av, j, cv, h4, hp, how, hf⟩ := hd 4 (by decide) (by kernel_rfl)
          clear ho hd
          intro K hK
          simp only [List.take, putsT, put_mk, List.setIfInBounds_toArray, List.set_cons_succ, List.set_cons_zero] at hK ⊢
          rw [h4] at hK ⊢
          clear h4
          have HK : Hid _ := hK
          clear hK
          have HP3 := hidden (And.intro hp hf)
          clear hp how hf
          go_wp2_with fail
          exact HK.out _ _ (Below.refl _ _) ⟨q, ys, av, j, cv, rfl, HP3.out⟩
        case g7 =>
          intro o ho vs W hb hd
          have HBW : Hid (Below w2.heap.size w2 W) := Hw4.out.trans (hb.mono Hw4.out.size)
          have HS : Hid (w4.heap.size ≤ W.heap.size) := hb.size
          have HXW : Hid (Below w4.heap.size w4 W) := hb
          clear hb
          obtain rfl := Option.some.inj ho
          clear ho hd
          intro K hK
          simp only [List.take, putsT, put_mk, List.setIfInBounds_toArray, List.set_cons_succ, List.set_cons_zero] at hK ⊢
          have HK : Hid _ := hK
          clear hK
          go_wp2_with fail
          exact HK.out _ _ ((Below.refl _ _).alloc (Nat.le_refl _) _) ⟨_, rfl, HS.out, BoxN.new _ _ _⟩
        case g8 =>
          intro o ho vs W hb hd
          have HBW : Hid (Below w2.heap.size w2 W) := Hw4.out.trans (hb.mono Hw4.out.size)
          have HS : Hid (w4.heap.size ≤ W.heap.size) := hb.size
          have HXW : Hid (Below w4.heap.size w4 W) := hb
          clear hb
          obtain rfl := Option.some.inj ho
          obtain ⟨q, ys, a1, c1, h5, hp, how⟩ := hd 5 (by decide) (by kernel_rfl)
          clear ho hd
          intro K hK
          simp only [List.take, putsT, put_mk, List.setIfInBounds_toArray, List.set_cons_succ, List.set_cons_zero] at hK ⊢
          rw [h5] at hK ⊢
          clear h5
          have HK : Hid _ := hK
          clear hK
          have HP3 := hidden (And.intro hp how)
          clear hp how
          go_wp2_with fail
          exact HK.out _ _ (Below.refl _ _) ⟨q, ys, a1, c1, rfl, HP3.out⟩
      intro vs W hb hd
      have HBW : Hid (Below w2.heap.size w2 W) := Hw4.out.trans (hb.mono Hw4.out.size)
      have HS : Hid (w4.heap.size ≤ W.heap.size) := hb.size
      have HXW : Hid (Below w4.heap.size w4 W) := hb
      clear hb
      simp only [List.take, List.drop, putsT, put_mk, List.setIfInBounds_toArray, List.set_cons_succ, List.set_cons_zero]
      obtain ⟨q, ys, a1, c1, h8, hp8, ho8⟩ := hd 8 (by decide)
      obtain ⟨q6, ys6, av, j, cv, h6, hp6, hf6⟩ := hd 6 (by decide)
      obtain ⟨p, h7, hlp, hbp⟩ := hd 7 (by decide)
      obtain ⟨rfl, rfl⟩ := hp8.one hp6
      rw [h8, h6, h7]
      clear h8 h6 h7 hd hp6
      have d0 := hbp.cell 0 rfl
      have d1 := hbp.cell 1 rfl
      have f0 := hbp.frozen 0
      have f1 := hbp.frozen 1
      obtain ⟨w6, hw6⟩ : ∃ w6, (W.setCell ⟨p, 0, none⟩ (.int .i64 m)).setCell ⟨p, 1, none⟩ (.slice av j cv) = w6 := ⟨_, rfl⟩
      have HI6 : Hid (BoxN w6 p 32 [.int .i64 m, .slice av j cv] ∧ Owns w6 w4.heap.size a1 q.length c1 q ∧ OwnF w6 w4.heap.size (.slice av j cv) j ys ∧ Below w2.heap.size w2 w6) := by
        have h1 := own_apart (t := 32) (by decide) ho8.1 hbp
        have h2 := own_apart (t := 32) (by decide) hf6.1 hbp
        have hz := Hw4.out.size
        show _ ∧ _
        rw [← hw6]
        exact ⟨(hbp.set 0 _).set 1 _, ⟨own_put (own_put ho8.1 h1) h1, ho8.2⟩, ⟨own_put (own_put hf6.1 h2) h2, hf6.2⟩, (HBW.out.setCell (by dsimp only; omega) _).setCell (by dsimp only; omega) _⟩
      have HP6 : Hid (PutN (fieldsR op x n) m xs (fieldsR op x n).length q ys) := hp8
      have HWw : Hid (w4.heap.size ≤ w6.heap.size) := by
        have h := HS.out
        show _ ≤ _
        rw [← hw6]
        simpa using h
      have HW6 : Hid (_ = w6) := hw6
      clear hw6 hbp ho8 hf6 hp8 hlp HS HXW HBW
      go_upto_region 4 with fail
      rw [HW6.out]
      clear HW6 d0 d1 f0 f1
      have hq0 : 0 < q.length := PutN.pos HOk.out (fieldsR_pos HRq.out) HP6.out
      obtain ⟨kq, hkq⟩ : ∃ kq, q.length = kq := ⟨_, rfl⟩
      have HKq : Hid (q.length = kq) := hkq
      rw [hkq] at HI6 hq0 ⊢
      clear hkq
      obtain ⟨gq, rfl⟩ : ∃ gq, a1 = some ⟨gq, 0, none⟩ := by
        rcases HI6.out.2.1.1.2 with ⟨e, h0⟩ | ⟨g', c', cur, he, _⟩
        · omega
        · injection he with e1 e2 e3
          exact ⟨g', e1⟩
      have hcap : kq ≤ c1 := by
        rcases HI6.out.2.1.1.2 with ⟨e, h0⟩ | ⟨g', c', cur, he, hgb, hg, hn, hm, hc, ht⟩
        · omega
        · injection he with e1 e2 e3
          omega
      have hkq1 : kq ≤ 1000000 := by
        have h1 := HP6.out.fits.2.2
        have h2 := HFl.out HRq.out
        have h3 := fieldsR_len op x n
        have h4 := HKq.out
        rw [List.take_length] at h1
        omega
      go_wp2_with fail
      refine (specPart_any s _ gq 0 kq c1 q most w6 HI6.out.2.1.seg hcap (by omega)).mono ?_
      rintro e w7 ⟨v7, l7, rfl, hr7, hd7, hb7⟩
      obtain ⟨a7, c7, rfl⟩ := hr7.shape
      have HD7 : Hid (l7.map FE.data = partL s ((L : Int) == 0) q most) := hd7
      have HF7 : Hid (FrIn w7 a7 l7.length l7) := hr7.frIn rfl
      have Hw7 : Hid (Below w2.heap.size w2 w7) := HI6.out.2.2.2.trans (hb7.mono HI6.out.2.2.2.size)
      have HI7 : Hid (BoxN w7 p 32 [.int .i64 m, .slice av j cv] ∧ OwnF w7 w4.heap.size (.slice av j cv) j ys) := ⟨HI6.out.1.stays hb7, HI6.out.2.2.1.stays hb7⟩
      obtain ⟨n7, hn7⟩ : ∃ n7, l7.length = n7 := ⟨_, rfl⟩
      rw [hn7] at HF7 ⊢
      have h7a : n7 ≤ kq + 1 := by rw [← hn7, ← HKq.out, ← List.length_map (f := FE.data), HD7.out]; exact partL_len _ _ _ _
      have HBp : Hid (0 < (bytesF (l7.map FE.data)).length) := by show _ < _; rw [HD7.out]; exact partL_bytes HSt.out _ _ _
      have HBl : Hid ((bytesF (l7.map FE.data)).length ≤ 1100000000) := by
        have h1 := bytesF_len (l7.map FE.data)
        rw [List.length_map, hn7] at h1
        show _ ≤ _
        omega
      have HBw : Hid (w4.heap.size ≤ w7.heap.size) := Nat.le_trans HWw.out hb7.size
      clear hr7 hd7 hb7 hn7 HI6
      go_wp2_with fail
      refine (specPutFrs_any a7 n7 c7 l7 w7 HF7.out (by omega) (by have := HBl.out; omega)).mono ?_
      rintro e w8 ⟨⟨a8, c8, rfl, ho8⟩, hb8⟩
      obtain ⟨P0, hP0⟩ : ∃ P0, bytesF (l7.map FE.data) = P0 := ⟨_, rfl⟩
      have HP0 : Hid (P0 = bytesF (partL s ((L : Int) == 0) q most)) := by show _ = _; rw [← hP0, HD7.out]
      have hp0 : 0 < P0.length := by rw [← hP0]; exact HBp.out
      have hp1 : P0.length ≤ 1100000000 := by rw [← hP0]; exact HBl.out
      rw [hP0] at ho8 ⊢
      obtain ⟨g8, rfl⟩ : ∃ g8, a8 = some ⟨g8, 0, none⟩ := by
        rcases ho8.1.2 with ⟨e, h0⟩ | ⟨g', c', cur, he, _⟩
        · omega
        · injection he with e1 e2 e3
          exact ⟨g', e1⟩
      have HO8 : Hid (Owns w8 w7.heap.size (some ⟨g8, 0, none⟩) P0.length c8 P0) := ho8
      have HB8 : Hid (Below w7.heap.size w7 w8) := hb8
      clear ho8 hb8 hP0 HBp HBl HF7 HD7
      have hM := clampM_range most
      have hMd : clampM most = (min (max most 1) 1000).toNat := rfl
      obtain ⟨M, hMM⟩ : ∃ M, clampM most = M := ⟨_, rfl⟩
      have HM : Hid (clampM most = M) := hMM
      rw [hMM] at hM hMd
      clear hMM
      have HMc : Hid ((most < 1 → (1 : Int) = (M : Int)) ∧ (¬ most < 1 → ¬ 1000 < most → most = (M : Int)) ∧ (1000 < most → (1000 : Int) = (M : Int))) := by
        show _ ∧ _ ∧ _
        omega
      clear hMd
      obtain ⟨D, hD⟩ : ∃ D, dataL s zs M = D := ⟨_, rfl⟩
      obtain ⟨N, hN⟩ : ∃ N, pd M L = N := ⟨_, rfl⟩
      have HDD : Hid (dataL s zs M = D) := hD
      have HN : Hid (D.length = N ∧ ∀ k, (k < N ↔ k * M < L) ∧ (k < N → D[k]? = some (0, if k + 1 = N then 1 else 0, s, (zs.drop (k * M)).take M))) := by
        show _ ∧ _
        rw [← hN, ← HZl.out, ← hD]
        exact ⟨dataL_len s zs M, fun k => ⟨pd_lt hM.1, fun h => dataL_at s zs M k h⟩⟩
      have hNL : N ≤ L := by rw [← hN]; exact pd_le M L hM.1
      have HTot : Hid ((P0 ++ bytesF D).length ≤ 1099511627776) := by
        have h1 := bytesF_len D
        rw [HN.out.1] at h1
        show _ ≤ _
        rw [List.length_append]
        omega
      clear hD hN
      have HB78 := HB8
      go_upto_if 50 with fail
      go_cut [4] from 18 (fun v4 W => (∃ x9 : Int, v4 = .int .i64 x9 ∧ (1000 < x9 → (1000 : Int) = (M : Int)) ∧ (¬ 1000 < x9 → x9 = (M : Int))) ∧ Hid (W = w8))
      case first =>
        by_cases hlt : most < 1
        · go_wp2_with fail
          go_meet
          exact ⟨⟨1, rfl, by omega, fun _ => HMc.out.1 hlt⟩, rfl⟩
        · go_wp2_with fail
          go_meet
          exact ⟨⟨most, rfl, fun h => HMc.out.2.2 h, fun h => HMc.out.2.1 hlt h⟩, rfl⟩
      case rest =>
      obtain ⟨⟨x9, rfl, hx1, hx2⟩, hW⟩ := hcut
      rw [hW.out]
      clear hW HMc
      go_upto_if 52 with fail
      go_cut [4] from 18 (fun v4 W => v4 = .int .i64 (M : Int) ∧ Hid (W = w8))
      case first =>
        by_cases hlt : 1000 < x9
        · have e := hx1 hlt
          clear hx1 hx2
          go_wp2_with fail
          go_meet
          exact ⟨by rw [e], rfl⟩
        · have e := hx2 hlt
          subst e
          clear hx1 hx2
          go_wp2_with fail
          go_meet
          exact ⟨rfl, rfl⟩
      case rest =>
      obtain ⟨rfl, hW⟩ := hcut
      rw [hW.out]
      clear hW hx1 hx2 x9
      go_wp2_with fail
      go_loopw [14, 15] (fun v i wr => ∃ (k g c' F : Nat), k ≤ N ∧ i = .int .i64 (F : Int) ∧ F ≤ L + 1000 ∧ v = .slice (some ⟨g, 0, none⟩) (P0 ++ bytesF (D.take k)).length c' ∧ Hid (F = k * M) ∧ Hid (Owns wr w7.heap.size (some ⟨g, 0, none⟩) (P0 ++ bytesF (D.take k)).length c' (P0 ++ bytesF (D.take k))) ∧ Hid (Below w7.heap.size w7 wr)) (fun _ i _ => L + 1000 - (intOf i).toNat)
      case atStart =>
        have h0 : P0 ++ bytesF (D.take 0) = P0 := by simp [bytesF]
        exact ⟨0, g8, c8, 0, Nat.zero_le _, rfl, by omega, by rw [h0], by show _ = _; omega, by show Owns _ _ _ _ _ _; rw [h0]; exact HO8.out, HB8⟩
      case round =>
        clear HO8 HB8 HB78
        obtain ⟨k, g, c', F, hk, rfl, hF, rfl, HF, HO, HB⟩ := hrel
        have HB2 : Hid (Below w2.heap.size w2 wr) := Hw7.out.trans (HB.out.mono Hw7.out.size)
        by_cases hkn : k < N
        · have hlt : F < L := by rw [HF.out]; exact (HN.out.2 k).1.1 hkn
          have HDk0 : Hid (D[k]? = some (0, if k + 1 = N then 1 else 0, s, (zs.drop F).take M)) := by show _ = _; rw [HF.out]; exact (HN.out.2 k).2 hkn
          have HFm : Hid ((k + 1) * M = F + M) := by show _ = _; rw [HF.out, Nat.add_mul, Nat.one_mul]
          have hlast : k + 1 = N ↔ L ≤ F + M := by
            have h1 := (HN.out.2 (k + 1)).1
            rw [HFm.out] at h1
            omega
          obtain ⟨G, hG⟩ : ∃ G : Int, (if k + 1 = N then (1 : Int) else 0) = G := ⟨_, rfl⟩
          obtain ⟨E, hE⟩ : ∃ E : Nat, (if L ≤ F + M then L else F + M) = E := ⟨_, rfl⟩
          have HE : Hid (E = F + M ∨ (E = L ∧ L ≤ F + M)) := by show _ ∨ _; rw [← hE]; split <;> omega
          have hE1 : F < E ∧ E ≤ L ∧ E ≤ F + M := by rw [← hE]; split <;> omega
          have HPT0 : Hid (P0 ++ bytesF (D.take (k + 1)) = P0 ++ bytesF (D.take k) ++ putF 0 G s ((zs.drop F).take M)) := by
            show _ = _
            rw [bytesF_take _ _ _ HDk0.out, hG, List.append_assoc]
          obtain ⟨P, hP⟩ : ∃ P, P0 ++ bytesF (D.take k) = P := ⟨_, rfl⟩
          have HPT : Hid (P0 ++ bytesF (D.take (k + 1)) = P ++ putF 0 G s ((zs.drop F).take M)) := by show _ = _; rw [HPT0.out, hP]
          rw [hP] at HO ⊢
          have HLs : Hid (P.length + (putF 0 G s ((zs.drop F).take M)).length ≤ 1099511627776) := by
            have h7 := bytesF_take_le D (k + 1)
            have h8 := HTot.out
            have h9 := congrArg List.length HPT.out
            simp only [List.length_append] at h8 h9
            show _ ≤ _
            omega
          clear HPT0 hP HDk0
          have hi1 : (F : Int) < (L : Int) := by omega
          go_upto_region 14 with fail
          obtain ⟨W1, hW1⟩ : ∃ W1, wr.alloc (.cells #[.int .i64 0, .int .i64 0, .int .i64 s, .slice none 0 0] 55) = W1 := ⟨_, rfl⟩
          have HX1 : Hid (Box4 W1 wr.heap.size 55 (.int .i64 0) (.int .i64 0) (.int .i64 s) (.slice none 0 0) ∧ Below wr.heap.size wr W1) := by
            show _ ∧ _
            rw [← hW1]
            exact ⟨Box4.new _ _ _ _ _ _, (Below.refl _ _).alloc (Nat.le_refl _) _⟩
          rw [hW1]
          clear hW1
          obtain ⟨fb, hfb⟩ : ∃ fb, wr.heap.size = fb := ⟨_, rfl⟩
          rw [hfb] at HX1 ⊢
          have HSz : Hid (wr.heap.size = fb) := hfb
          clear hfb
          obtain ⟨c0, c1, c2, c3⟩ := HX1.out.1.cells
          have f1 := HX1.out.1.frozen 1
          go_upto_if 68 with fail
          go_cut [16] from 53 to 82 (fun v16 W => v16 = .int .i64 (E : Int) ∧ Hid (Box4 W fb 55 (.int .i64 0) (.int .i64 G) (.int .i64 s) (.slice none 0 0) ∧ Below fb wr W))
          case first =>
            by_cases hle : L ≤ F + M
            · rw [if_pos hle] at hE
              subst hE
              rw [if_pos (hlast.2 hle)] at hG
              subst hG
              have hi2 : (L : Int) ≤ (F : Int) + (M : Int) := by omega
              go_wp2_with fail
              go_meet
              exact ⟨rfl, box4_set1 HX1.out.1 _, HX1.out.2.setCell (Nat.le_refl _) _⟩
            · rw [if_neg hle] at hE
              rw [if_neg (fun h => hle (hlast.1 h))] at hG
              subst hG
              have hi2 : ¬ (L : Int) ≤ (F : Int) + (M : Int) := by omega
              have e2 : (F : Int) + (M : Int) = (E : Int) := by omega
              go_wp2_with fail
              go_meet
              exact ⟨rfl, HX1⟩
          case rest =>
          clear c0 c1 c2 c3 f1 HX1
          obtain ⟨rfl, HX⟩ := hcut
          obtain ⟨W2, hW2⟩ : ∃ W2, wc = W2 := ⟨_, rfl⟩
          rw [hW2] at HX ⊢
          clear hW2 hE hG
          have HS2z : Hid (fb < W2.heap.size) := HX.out.1.lt
          obtain ⟨c0, c1, c2, c3⟩ := HX.out.1.cells
          have f3 := HX.out.1.frozen 3
          have HC2 : Hid (Below w7.heap.size w7 W2) := HB.out.trans (HX.out.2.mono (by rw [← HSz.out]; exact HB.out.size))
          have HC2q : Hid (Below w2.heap.size w2 W2) := Hw7.out.trans (HC2.out.mono Hw7.out.size)
          have HS2 : Hid (Seg (W2.alloc (.cells #[] 5)) (some ⟨b, o, none⟩) L zs) := (HQ.out _ (HC2q.out.alloc HC2q.out.size _)).2.2.2.2.1
          have HO1 : Hid ((W2.alloc (.cells #[] 5)).ownsRow W2.heap.size 5 1 (.slice (some ⟨W2.heap.size, 0, none⟩) 0 0) 0 []) := World.ownsRow_lit W2 #[] 0 (Nat.le_refl _) (Nat.zero_le _) rfl
          have HSG : Hid (Seg (W2.alloc (.cells #[] 5)) (some ⟨b, o + F, none⟩) (E - F) ((zs.drop F).take (E - F))) := seg_cut HS2.out F (E - F) (o + F) (by omega) (.inl rfl)
          have HTl : Hid (((zs.drop F).take (E - F)).length = E - F) := HSG.out.1
          have HTp : Hid ((zs.drop F).take (E - F) = (zs.drop F).take M) := take_part zs F E M (by rw [HZl.out]; exact HE.out)
          rw [← HTp.out] at HPT HLs
          generalize (zs.drop F).take (E - F) = yz at *
          have hEF : (F : Int) ≤ (E : Int) := by omega
          have hEc : (E : Int) ≤ (C : Int) := by omega
          have hys : E - F ≤ 1000 := by omega
          have hcF : ¬ C = F := by omega
          go_upto_region 17 with fail
          go_upto_region 18 with (at_builtin; refine wpList_append_own _ rfl _ _ 27 rfl W2.heap.size 5 i0 (.int .u8 0) 1 1 Tryz.underlying27 hi0 hy0 hy1 hy2 rfl (by decide) (.slice (some ⟨W2.heap.size, 0, none⟩) 0 0) 0 [] rfl HO1.out ⟨b, o + F, none⟩ (E - F) _ (yz.map (Value.int .u8)) rfl (by simp [HTl.out]) (cells_ints HSG.out) (ints_one _) (by unfold maxLen; omega) (by omega) (by simp) ?_; intro v3 W3 hown3 hgrow3 _; refine Hid.out ?_)
          all_goals
            refine hidden ?_
            have hB3 : Below W2.heap.size W2 W3 := ((Below.refl _ _).alloc (Nat.le_refl _) _).grown hgrow3 (by simp) (by simp [Value.ownBlock])
            obtain ⟨a3, k3, rfl⟩ := shape_of_owns hown3
            rw [Nat.zero_add] at hown3 ⊢
            have HG3 : Hid (Owns W3 W2.heap.size a3 (E - F) k3 yz) := ⟨by simpa using hown3, HSG.out.2.1⟩
            have HX3 : Hid (Box4 W3 fb 55 (.int .i64 0) (.int .i64 G) (.int .i64 s) (.slice none 0 0)) := HX.out.1.stays hB3
            have HO3 : Hid (Owns W3 w7.heap.size (some ⟨g, 0, none⟩) P.length c' P) := (HO.out.below (by rw [HSz.out]; exact HX.out.2)).below hB3
            have HB3 : Hid (Below w7.heap.size w7 W3) := HC2.out.trans (hB3.mono HC2.out.size)
            have HZ3 : Hid (fb < W2.heap.size ∧ W2.heap.size ≤ W3.heap.size ∧ g < fb ∧ w7.heap.size ≤ fb) := ⟨HS2z.out, hB3.size, by have := (HO.out.lt g rfl).2; have := HSz.out; omega, by have := HB.out.size; have := HSz.out; omega⟩
            clear hB3 hown3 hgrow3 HX HO HC2 HC2q HS2 HO1 HSG HS2z c0 c1 c2 c3 f3
            obtain ⟨c0, c1, c2, c3⟩ := HX3.out.cells
            have f3 := HX3.out.frozen 3
            go_upto_region 18 with fail
            obtain ⟨W4, hW4⟩ : ∃ W4, W3.setCell ⟨fb, 3, none⟩ (.slice a3 (E - F) k3) = W4 := ⟨_, rfl⟩
            have HG4 : Hid (Owns W4 W2.heap.size a3 (E - F) k3 yz) := by
              show Owns _ _ _ _ _ _
              rw [← hW4]
              exact owns_set HG3.out (fun e => by have h1 := (HG3.out.lt fb e).1; have h2 := HZ3.out.1; omega)
            have HX4 : Hid (Box4 W4 fb 55 (.int .i64 0) (.int .i64 G) (.int .i64 s) (.slice a3 (E - F) k3)) := by
              show Box4 _ _ _ _ _ _ _
              rw [← hW4]
              exact box4_set3 HX3.out _
            have HB4 : Hid (Below w7.heap.size w7 W4) := by
              show Below _ _ _
              rw [← hW4]
              exact HB3.out.setCell (p := ⟨fb, 3, none⟩) HZ3.out.2.2.2 _
            have HO4 : Hid (Owns W4 w7.heap.size (some ⟨g, 0, none⟩) P.length c' P) := by
              show Owns _ _ _ _ _ _
              rw [← hW4]
              exact owns_set HO3.out (fun e => by have h2 := HZ3.out.2.2.1; have e2 : g = fb := (by simpa using e); omega)
            rw [hW4]
            clear hW4 HG3 HX3 HB3 HO3 c0 c1 c2 c3 f3
            obtain ⟨c0, c1, c2, c3⟩ := HX4.out.cells
            go_wp2_with fail
            refine (specPutFr_any 0 G s a3 (E - F) k3 yz W4 HG4.out.seg).mono ?_
            rintro e w5 ⟨a5, c5, rfl, ho5, hb5⟩
            have HC5 : Hid (Below w7.heap.size w7 w5) := HB4.out.trans (hb5.mono HB4.out.size)
            have HO5 : Hid (Owns w5 w7.heap.size (some ⟨g, 0, none⟩) P.length c' P) := HO4.out.below hb5
            have HR : Hid (∀ x ∈ P ++ putF 0 G s yz, 0 ≤ x ∧ x ≤ 255) := by
              intro x hx
              rcases List.mem_append.1 hx with h | h
              · exact HO5.out.2 x h
              · exact ho5.2 x h
            clear HX4 HG4 HO4 HB4 c0 c1 c2 c3
            obtain ⟨Q, hQ⟩ : ∃ Q, putF 0 G s yz = Q := ⟨_, rfl⟩
            rw [hQ] at ho5 HPT HLs HR ⊢
            obtain ⟨mq, hmq⟩ : ∃ mq, Q.length = mq := ⟨_, rfl⟩
            obtain ⟨pq, hpq⟩ : ∃ pq, P.length = pq := ⟨_, rfl⟩
            have HQl : Hid (Q.length = mq ∧ P.length = pq) := ⟨hmq, hpq⟩
            rw [hmq] at ho5 HLs ⊢
            rw [hpq] at HO5 HLs
            have HSrc : Hid (Src Tryz.prog 1 27 (.slice a5 mq c5) mq (Q.map (Value.int .u8)) w5) := by
              show Src _ _ _ _ _ _ _
              cases a5 with
              | none =>
                have h9 := seg_nil ho5.seg rfl
                subst h9
                obtain rfl : Q = [] := List.eq_nil_of_length_eq_zero hmq
                exact Src.ofNil _ Tryz.underlying27 c5
              | some ad => exact Src.ofSlice _ Tryz.underlying27 ad mq c5 _ (by rw [List.length_map, hmq]; omega) (seg_src ho5.seg ad rfl) (ints_one _)
            have hA : pq + mq ≤ maxLen := by have := HLs.out; unfold maxLen; omega
            have hA2 : (pq + mq) * 1 ≤ 140737488355328 := by have := HLs.out; omega
            have HBs : Hid (w7.heap.size ≤ w5.heap.size) := HC5.out.size
            clear ho5 hb5 hQ hmq HB
            rw [hpq]
            clear hpq
            go_wp2_with (at_builtin; refine wpList_append_got rfl _ _ 27 27 rfl w7.heap.size 5 i0 (.int .u8 0) 1 1 Tryz.underlying27 hi0 hy0 hy1 hy2 rfl (by decide) g pq c' (P.map (Value.int .u8)) rfl HO5.out.1 (.slice a5 mq c5) mq (Q.map (Value.int .u8)) rfl HSrc.out hA hA2 HBs.out ?_; intro g6 c6 W6 hown6 hgrow6; refine Hid.out ?_)
            refine hidden ?_
            have HB6 : Hid (Below w7.heap.size w7 W6) := HC5.out.grown hgrow6 HBs.out (fun q e => by injection e with e; have := (HO5.out.lt g rfl).1; omega)
            have HO6 : Hid (Owns W6 w7.heap.size (some ⟨g6, 0, none⟩) (pq + mq) c6 (P ++ Q)) := by
              refine ⟨?_, HR.out⟩
              rw [List.map_append]
              exact hown6
            clear hown6 hgrow6 HO5 HC5 HSrc HBs HR
            have HJ : Hid (F + M ≤ L + 1000) := by show _ ≤ _; omega
            go_wp2_with fail
            go_roundw
            case rel => exact ⟨k + 1, g6, c6, F + M, hkn, by go_num, HJ.out, by rw [HPT.out, List.length_append, HQl.out.1, HQl.out.2], HFm.out.symm, by
              show Owns _ _ _ _ _ _
              rw [HPT.out, List.length_append, HQl.out.1, HQl.out.2]
              exact HO6.out, HB6⟩
            case measure => simp [intOf]; omega
        · have hkN : k = N := by omega
          have hnl : ¬ (F : Int) < (L : Int) := by
            have h1 := (HN.out.2 k).1
            rw [← HF.out] at h1
            omega
          have HAll : Hid (D.take k = D) := List.take_of_length_le (by rw [HN.out.1, hkN]; exact Nat.le_refl _)
          rw [HAll.out] at HO ⊢
          obtain ⟨P, hP⟩ : ∃ P, P0 ++ bytesF D = P := ⟨_, rfl⟩
          rw [hP] at HO ⊢
          have HP : Hid (P = bytesF (askF s zs q most)) := by
            show _ = _
            rw [← hP, HP0.out, ← HDD.out, askF, HM.out, HZl.out, show ((L : Int) == 0) = decide (L = 0) by rw [Bool.eq_iff_iff]; simp]
            simp [bytesF]
          have hz4 : w.heap.size + 3 ≤ w4.heap.size := by have := Hw4.out.size; have := HZ2.out; omega
          have hz7 : w4.heap.size ≤ w7.heap.size := HBw.out
          go_upto_region 19 with fail
          refine wp_region_grow 3 [Stay.val (.slice (some ⟨g, 0, none⟩) P.length c'), Stay.val (.agg #[.int .i64 m, .slice av j cv]), Stay.val (.slice (some ⟨g, 0, none⟩) P.length c')] (by kernel_rfl) (by kernel_rfl) ?_ ?_
          · refine (all_succ (all_succ (all_succ all_zero ?g0) ?g1) ?g2)
            case g0 =>
              intro o ho vs W hb hd
              have HBW : Hid (Below w7.heap.size w7 W) := HB.out.trans (hb.mono HB.out.size)
              have HS : Hid (wr.heap.size ≤ W.heap.size) := hb.size
              have HXW : Hid (Below wr.heap.size wr W) := hb
              clear hb
              obtain rfl := Option.some.inj ho
              clear ho hd
              intro K hK
              simp only [List.take, putsT, put_mk, List.setIfInBounds_toArray, List.set_cons_succ, List.set_cons_zero] at hK ⊢
              have HK : Hid _ := hK
              clear hK
              go_wp2_with fail
              exact HK.out _ _ (Below.refl _ _) rfl
            case g1 =>
              intro o ho vs W hb hd
              have HBW : Hid (Below w7.heap.size w7 W) := HB.out.trans (hb.mono HB.out.size)
              have HS : Hid (wr.heap.size ≤ W.heap.size) := hb.size
              have HXW : Hid (Below wr.heap.size wr W) := hb
              clear hb
              obtain rfl := Option.some.inj ho
              clear ho hd
              have hq := (HI7.out.1.stays HBW.out)
              have c0 := hq.cell 0 rfl
              have c1 := hq.cell 1 rfl
              clear hq
              intro K hK
              simp only [List.take, putsT, put_mk, List.setIfInBounds_toArray, List.set_cons_succ, List.set_cons_zero] at hK ⊢
              have HK : Hid _ := hK
              clear hK
              go_wp2_with fail
              exact HK.out _ _ (Below.refl _ _) rfl
            case g2 =>
              intro o ho vs W hb hd
              have HBW : Hid (Below w7.heap.size w7 W) := HB.out.trans (hb.mono HB.out.size)
              have HS : Hid (wr.heap.size ≤ W.heap.size) := hb.size
              have HXW : Hid (Below wr.heap.size wr W) := hb
              clear hb
              obtain rfl := Option.some.inj ho
              have h0 : vs 0 = _ := hd 0 (by decide) (by kernel_rfl)
              clear ho hd
              intro K hK
              simp only [List.take, putsT, put_mk, List.setIfInBounds_toArray, List.set_cons_succ, List.set_cons_zero] at hK ⊢
              rw [h0] at hK ⊢
              clear h0
              have HK : Hid _ := hK
              clear hK
              go_wp2_with fail
              exact HK.out _ _ (Below.refl _ _) rfl
          intro vs W hb hd
          have HBW : Hid (Below w7.heap.size w7 W) := HB.out.trans (hb.mono HB.out.size)
          have HS : Hid (wr.heap.size ≤ W.heap.size) := hb.size
          have HXW : Hid (Below wr.heap.size wr W) := hb
          clear hb
          simp only [List.take, List.drop, putsT, put_mk, List.setIfInBounds_toArray, List.set_cons_succ, List.set_cons_zero]
          have h1 : vs 1 = _ := hd 1 (by decide)
          have h2 : vs 2 = _ := hd 2 (by decide)
          rw [h1, h2]
          clear h1 h2 hd
          have HB2d : Hid (Below w2.heap.size w2 W) := Hw7.out.trans (HBW.out.mono Hw7.out.size)
          have HOd : Hid (Owns W w7.heap.size (some ⟨g, 0, none⟩) P.length c' P) := HO.out.below HXW.out
          have HI8 : Hid (BoxN W p 32 [.int .i64 m, .slice av j cv] ∧ OwnF W w4.heap.size (.slice av j cv) j ys) := ⟨HI7.out.1.stays HBW.out, HI7.out.2.stays HBW.out⟩
          have HR8 : Hid (BoxN W (w.heap.size + 2) 32 [.int .i64 0, .slice none 0 0] ∧ Below w.heap.size w W) := ⟨(HQ.out _ HB2d.out).2.2.1, (HQ.out _ HB2d.out).2.2.2.2.2⟩
          have HF8 : Hid (OwnF ((W.setCell ⟨w.heap.size + 2, 0, none⟩ (.int .i64 m)).setCell ⟨w.heap.size + 2, 1, none⟩ (.slice av j cv)) w.heap.size (.slice av j cv) j ys ∧ Owns ((W.setCell ⟨w.heap.size + 2, 0, none⟩ (.int .i64 m)).setCell ⟨w.heap.size + 2, 1, none⟩ (.slice av j cv)) w.heap.size (some ⟨g, 0, none⟩) P.length c' P ∧ Below w.heap.size w ((W.setCell ⟨w.heap.size + 2, 0, none⟩ (.int .i64 m)).setCell ⟨w.heap.size + 2, 1, none⟩ (.slice av j cv))) := by
            have h1 := own_apart (t := 32) (by decide) HI8.out.2.1 HR8.out.1
            have h2 := own_apart (t := 32) (by decide) HOd.out.1 HR8.out.1
            refine ⟨⟨own_down (own_put (own_put HI8.out.2.1 h1) h1) (by omega), HI8.out.2.2⟩, ⟨own_down (own_put (own_put HOd.out.1 h2) h2) (by omega), HOd.out.2⟩, ?_⟩
            repeat (refine Below.setCell ?_ (by dsimp only; omega) _)
            exact HR8.out.2
          have g0 := HR8.out.1.cell 0 rfl
          have g1 := HR8.out.1.cell 1 rfl
          have f0 := HR8.out.1.frozen 0
          have f1 := HR8.out.1.frozen 1
          clear HO HB HB2 HF HAll HI8 HR8 HOd HB2d HBW HXW HS hz4 hz7 hP hkN hkn
          go_wp2_with fail
          refine bodyPost_ret (v := .tuple #[.slice (some ⟨g, 0, none⟩) P.length c', .agg #[.int .i64 m, .slice av j cv]]) (by simp [results, Tryz.f6, go_sem, g0, g1]) rfl ?_
          exact ⟨⟨P, ys, _, _, _, _, _, rfl, .inl ⟨⟨HOk.out, HRq.out, HSt.out⟩, q, HP6.out, HP.out⟩, HF8.out.2.1, HF8.out.1⟩, HF8.out.2.2⟩

    end Go.Proofs.YtbaijmkghgnleaaGreatDoor

namespace Go.Proofs.YtbaijmkghgnleaaGreatDoor
open Go.RowKit
set_option linter.unusedVariables false

set_option maxHeartbeats 400000 in
theorem blockOk_yes (s : Int) (w : World) (h1 : 1 ≤ s) (h2 : s ≤ 2147483647) : Calls Tryz.prog 30 #[.int .i64 s] w fun e w' => e = .returned (.bool true) ∧ w' = w := by
  go_enter Tryz.func30, Tryz.ntmps30
  go_wp2
  go_ret
  exact ⟨rfl, rfl⟩

set_option maxHeartbeats 400000 in
theorem blockOk_no (s : Int) (w : World) (h : ¬ (1 ≤ s ∧ s ≤ 2147483647)) : Calls Tryz.prog 30 #[.int .i64 s] w fun e w' => e = .returned (.bool false) ∧ w' = w := by
  by_cases c1 : 1 ≤ s
  · have c2 : ¬ s ≤ 2147483647 := fun h2 => h ⟨c1, h2⟩
    clear h
    go_enter Tryz.func30, Tryz.ntmps30
    go_wp2
    go_ret
    exact ⟨ret_bool (by simp; try omega), rfl⟩
  · clear h
    go_enter Tryz.func30, Tryz.ntmps30
    go_wp2
    go_ret
    exact ⟨ret_bool (by simp; try omega), rfl⟩

end Go.Proofs.YtbaijmkghgnleaaGreatDoor

namespace Go.Proofs.YtbaijmkghgnleaaGreatDoor
open Go.RowKit
set_option linter.unusedVariables false

theorem feCells_flag (l : List FE) (e : FE) (m : List FE) (x : Int) :
    (feCells (l ++ e :: m)).set (l.length * 4 + 1) (.int .i64 x) = feCells (l ++ { e with f := x } :: m) := by
  have hl := feCells_len l
  rw [feCells_append, feCells_append, feCells_cons, feCells_cons]
  rw [List.set_append_right _ _ (by omega), hl, show l.length * 4 + 1 - l.length * 4 = 1 by omega]
  rfl

/-- A frame's flags are written over in its row. -/
theorem FrRow.flagged {W : World} {base g n c : Nat} {M D : List FE} {e : FE} (h : FrRow W base (.slice (some ⟨g, 0, none⟩) n c) (M ++ e :: D)) (hn : (M ++ e :: D).length = n) (x : Int) :
    FrRow (W.setCell ⟨g, M.length * 4 + 1, none⟩ (.int .i64 x)) base (.slice (some ⟨g, 0, none⟩) n c) (M ++ { e with f := x } :: D) ∧ W.grownBy (W.setCell ⟨g, M.length * 4 + 1, none⟩ (.int .i64 x)) (some g) := by
  have ho := h.1
  rw [hn] at ho
  have h1 := ho.stored (M.length * 4 + 1) (.int .i64 x)
  have hg : W.grownBy (W.setCell ⟨g, M.length * 4 + 1, none⟩ (.int .i64 x)) (some g) := h1.2
  refine ⟨⟨?_, ?_, pair_same M D e _ rfl h.2.2⟩, hg⟩
  · have h4 := h1.1
    rw [feCells_flag] at h4
    rw [show (M ++ { e with f := x } :: D).length = n by rw [← hn]; simp]
    exact h4
  · intro e' he
    have key : ∀ u ∈ M ++ e :: D, Owns (W.setCell ⟨g, M.length * 4 + 1, none⟩ (.int .i64 x)) base u.a u.n u.c u.zs := fun u hu => (h.2.1 u hu).grown hg (fun q hq => h.rowApart (h.2.1 u hu) q (by injection hq with hq; subst hq; rfl))
    rcases List.mem_append.1 he with he | he
    · exact key e' (List.mem_append_left _ he)
    · rcases List.mem_cons.1 he with rfl | he
      · exact key e (List.mem_append_right _ (List.mem_cons_self ..))
      · exact key e' (List.mem_append_right _ (List.mem_cons_of_mem _ he))

theorem FrRow.flagAt {W : World} {base g n c i : Nat} {l : List FE} (h : FrRow W base (.slice (some ⟨g, 0, none⟩) n c) l) (hn : l.length = n) (hi : i < l.length) (x : Int) :
    FrRow (W.setCell ⟨g, i * 4 + 1, none⟩ (.int .i64 x)) base (.slice (some ⟨g, 0, none⟩) n c) (l.set i { l[i] with f := x }) ∧ W.grownBy (W.setCell ⟨g, i * 4 + 1, none⟩ (.int .i64 x)) (some g) := by
  have e1 : l = l.take i ++ l[i] :: l.drop (i + 1) := by rw [← List.drop_eq_getElem_cons hi]; exact (List.take_append_drop i l).symm
  have hl : (l.take i).length = i := by rw [List.length_take]; omega
  have e2 : l.set i { l[i] with f := x } = l.take i ++ { l[i] with f := x } :: l.drop (i + 1) := by
    rw [List.set_eq_take_append_cons_drop, if_pos hi]
  have h2 : FrRow W base (.slice (some ⟨g, 0, none⟩) n c) (l.take i ++ l[i] :: l.drop (i + 1)) := by rw [← e1]; exact h
  have h3 := h2.flagged (by rw [← e1]; exact hn) x
  rw [hl] at h3
  rw [e2]
  exact h3

/-- A row's block holds cells. -/
theorem row_is_cells {W : World} {base n size : Nat} {e : TypeId} {v : Value} {xs : List Value} (h : W.ownsRow base e size v n xs) {r : Nat} {o : Obj} (ho : W.heap[r]? = some o) (hc : o.isCells = false) : v.ownBlock ≠ some r := by
  intro hv
  rcases h.2 with ⟨rfl, _⟩ | ⟨g, cap, cur, rfl, _, hg, _⟩
  · cases hv
  · obtain rfl : g = r := by simpa [Value.ownBlock] using hv
    rw [hg] at ho
    injection ho with ho
    subst ho
    cases hc

theorem FrRow.others {W W' : World} {base : Nat} {v : Value} {l : List FE} {row : Option Nat} (h : FrRow W base v l) (hg : W.grownBy W' row) (hr : ∀ r, row = some r → ∃ o : Obj, W.heap[r]? = some o ∧ o.isCells = false) : FrRow W' base v l := by
  refine h.grown hg (fun q e => ?_) (fun x hx q e => ?_)
  · obtain ⟨o, h1, h2⟩ := hr q e
    exact row_is_cells h.1 h1 h2
  · obtain ⟨o, h1, h2⟩ := hr q e
    have := row_is_cells (h.2.1 x hx).1 h1 h2
    rwa [ownBlock_sl] at this

/-- The parts before their flags. -/
def raw (m : Nat) (s : Int) (zs : List Int) (j : Nat) : Int × Int × Int × List Int := (if j = 0 then 1 else 9, 0, s, (zs.drop (j * m)).take m)

/-- The flags written into the first and the last part. -/
theorem flags_done (m : Nat) (s : Int) (en : Bool) (zs : List Int) (l : List FE) (P : Nat) (hP : pn m zs.length = P + 1) (hl : l.length = P + 1) (hd : l.map FE.data = (List.range (P + 1)).map (raw m s zs)) (l1 : List FE) (h1 : l1 = if en = true then l.set 0 { l[0] with f := 1 } else l) (hl1 : P < l1.length) (x : Int) (hx : x = pf en P (P + 1)) :
    (l1.set P { l1[P] with f := x }).map FE.data = (List.range (pn m zs.length)).map (prt m s en zs) := by
  have hat : ∀ j (hj : j < l.length), (l[j]).data = raw m s zs j := by
    intro j hj
    have h2 : (l.map FE.data)[j]? = ((List.range (P + 1)).map (raw m s zs))[j]? := by rw [hd]
    rw [List.getElem?_map, List.getElem?_map, List.getElem?_eq_getElem hj, List.getElem?_range (by omega)] at h2
    simpa using h2
  have hlen : l1.length = P + 1 := by rw [h1]; split <;> simp [hl]
  have hat1 : ∀ j (hj : j < l1.length), (l1[j]).data = (if j = 0 then 1 else 9, if j = 0 ∧ en = true then 1 else 0, s, (zs.drop (j * m)).take m) := by
    subst h1
    intro j hj
    cases en with
    | false => simp only [Bool.false_eq_true, if_false, and_false]; exact hat j (by omega)
    | true =>
      simp only [if_true, and_true]
      rw [List.getElem_set]
      by_cases h0 : j = 0
      · subst h0
        have := hat 0 (by omega)
        simp only [FE.data, raw, Prod.mk.injEq] at this
        simp [FE.data, this]
      · rw [if_neg (Ne.symm h0)]
        have := hat j (by omega)
        rw [this]
        simp [raw, h0]
  apply List.ext_getElem?
  intro j
  rw [List.getElem?_map, List.getElem?_map, hP]
  by_cases hj : j < P + 1
  · rw [List.getElem?_range hj, List.getElem?_eq_getElem (by simp; omega)]
    simp only [Option.map_some, Option.some.injEq]
    rw [List.getElem_set]
    have h3 := hat1 j (by omega)
    by_cases hjP : P = j
    · subst hjP
      simp only [FE.data, Prod.mk.injEq] at h3
      rw [if_pos rfl]
      simp [FE.data, prt, hP, hx, h3]
    · rw [if_neg hjP, h3]
      have : ¬ j = P := fun e => hjP e.symm
      simp [prt, hP, pf, this]
  · rw [List.getElem?_eq_none (by simp; omega), List.getElem?_eq_none (by simp; omega)]
    rfl

end Go.Proofs.YtbaijmkghgnleaaGreatDoor
