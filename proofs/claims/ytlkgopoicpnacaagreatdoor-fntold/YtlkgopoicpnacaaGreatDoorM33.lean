/- A region that draws its order, whose operations each leave all that was there as it was (they read, make variables, call what makes rows of its own), and behind all of them a few that come one by one: each operation is looked at once, in whatever world it may come up. No program in it. What the program's copy of a store answers. What the program's copy of a server answers. What the program's fold does: what must fit; the upload that must be there. -/
import Derived.Test.YtlkgopoicpnacaaGreatDoorM01
import Derived.StillTail
import Derived.Deep.QuietTactic
import Derived.Test.YtlkgopoicpnacaaGreatDoorM17
import Derived.Test.YtlkgopoicpnacaaGreatDoorM32
import Derived.Test.YtlkgopoicpnacaaGreatDoorM32
import Derived.Test.YtlkgopoicpnacaaGreatDoorM05
import Derived.Test.YtlkgopoicpnacaaGreatDoorM18
import Derived.Test.YtlkgopoicpnacaaGreatDoorM18
import Derived.Test.YtlkgopoicpnacaaGreatDoorM06
import Derived.Test.YtlkgopoicpnacaaGreatDoorM04
namespace Go.Proofs.YtlkgopoicpnacaaGreatDoor
open Go.RowKit
set_option linter.unusedVariables false

theorem put_mk (t : Array Value) (d : List Deferred) (i : Tmp) (v : Value) : Act.put ⟨t, d⟩ (some i) v = ⟨t.setIfInBounds i v, d⟩ := rfl

theorem all_zero {S : Nat → Prop} : ∀ i, i < 0 → S i := fun i h => absurd h (by omega)
theorem all_succ {S : Nat → Prop} {n : Nat} (h : ∀ i, i < n → S i) (hn : S n) : ∀ i, i < n + 1 → S i := fun i hi => by
  by_cases e : i = n
  · subst e
    exact hn
  · exact h i (by omega)

/-- What is known of a value, and stays so when what was there is as it was. -/
structure Stay where
  p : Value → World → Prop
  mono : ∀ {v w w'}, p v w → Below w.heap.size w w' → p v w'

def Stay.free : Stay := ⟨fun _ _ => True, fun _ _ => trivial⟩
def Stay.val (c : Value) : Stay := ⟨fun v _ => v = c, fun h _ => h⟩

/-- What an operation is asked that came to this. -/
def growsUpon (P : Program) (R : Value → World → Prop) (w : World) : Result Next → Prop
  | .ok (.value v) w' => Below w.heap.size w w' ∧ R v w'
  | .ok .skip w' => Below w.heap.size w w' ∧ R undef w'
  | .ok (.enter f args) w' => Calls P f args w' fun e w'' => ∃ v, e = .returned v ∧ Below w.heap.size w w'' ∧ R v w''
  | .ok (.row row args) w' => Rows P row args w' fun v w'' => Below w.heap.size w w'' ∧ R v w''
  | _ => False

section
variable {P : Program}

theorem put_get {a : Act} {d : Tmp} (hd : d < a.tmps.size) {u v : Value} (h : a.put (some d) u = a.put (some d) v) : u = v := by
  have h1 : (a.tmps.setIfInBounds d u)[d]? = (a.tmps.setIfInBounds d v)[d]? := congrArg (fun x : Act => x.tmps[d]?) h
  rw [Array.getElem?_setIfInBounds_self_of_lt hd, Array.getElem?_setIfInBounds_self_of_lt hd] at h1
  exact Option.some.inj h1

/-- An operation walked alone. -/
theorem grows_of_wp {o : Oper} {d : Tmp} {a : Act} {w : World} {R : Value → World → Prop} (hd : o.dst = some d) (hs : d < a.tmps.size) (hg : o.guard = none)
    (h : ∀ K : Act → World → Prop, (∀ v w', Below w.heap.size w w' → R v w' → K (a.put o.dst v) w') → wpList P #[o] (fun e a w => e = .normal ∧ K a w) [o] a w) :
    growsUpon P R w ((execOp a.eval o).run P w) := by
  have h1 := h (fun a' w' => ∃ v, a' = a.put o.dst v ∧ Below w.heap.size w w' ∧ R v w') (fun v w' hb hr => ⟨v, rfl, hb, hr⟩)
  unfold wpList at h1
  rw [if_pos (by simp [Region.wanted, hg])] at h1
  rcases h1 with h1 | ⟨_, x, y, h1, _⟩
  case inr => cases h1
  unfold Oper.wp at h1
  generalize (execOp a.eval o).run P w = r at *
  cases r with
  | ok n w' =>
    cases n <;> simp only [Oper.upon, wpList] at h1 <;> simp only [growsUpon]
    case value u =>
      obtain ⟨_, v, e, hb, hr⟩ := h1
      rw [hd] at e
      rw [put_get hs e]
      exact ⟨hb, hr⟩
    case skip =>
      obtain ⟨_, v, e, hb, hr⟩ := h1
      rw [hd] at e
      rw [put_get hs e]
      exact ⟨hb, hr⟩
    case enter f args =>
      refine h1.mono fun e w'' he => ?_
      cases e with
      | returned u =>
        obtain ⟨_, v, e, hb, hr⟩ := he
        rw [hd] at e
        exact ⟨v, by rw [put_get hs e], hb, hr⟩
      | panicked c => cases he.1
      | outgrown => obtain ⟨x, y, h1, _⟩ := he; cases h1
    case row row args =>
      refine h1.mono fun u w'' he => ?_
      obtain ⟨_, v, e, hb, hr⟩ := he
      rw [hd] at e
      rw [put_get hs e]
      exact ⟨hb, hr⟩
    case defer dd =>
      obtain ⟨_, v, e, hb, hr⟩ := h1
      rw [hd] at e
      have h2 : dd :: a.defers = a.defers := congrArg Act.defers e
      exact absurd (congrArg List.length h2) (by simp)
  | halt x w' =>
    cases x <;> simp only [Oper.upon] at h1 <;> first | exact h1 | cases h1.1

theorem wp_of_grows {o : Oper} {a b : Act} {w : World} {R : Value → World → Prop} {K : Act → World → Prop} {Q : Exit → Act → World → Prop} (he : execOp a.eval o = execOp b.eval o)
    (h : growsUpon P R w ((execOp b.eval o).run P w)) (hK : ∀ v w', Below w.heap.size w w' → R v w' → K (a.put o.dst v) w') : o.wp P a w K Q := by
  unfold Oper.wp
  rw [he]
  generalize (execOp b.eval o).run P w = r at *
  cases r with
  | ok n w' =>
    cases n <;> simp only [growsUpon] at h <;> simp only [Oper.upon]
    case value u => exact hK _ _ h.1 h.2
    case skip => exact hK _ _ h.1 h.2
    case enter f args =>
      refine h.mono fun e w'' he => ?_
      obtain ⟨v, rfl, hb, hr⟩ := he
      exact hK _ _ hb hr
    case row row args => exact h.mono fun u w'' he => hK _ _ he.1 he.2
  | halt x w' => simp only [growsUpon] at h

/-- The values of the listed ones laid into their slots, in the order of the text. -/
def putsL (ops : Array Oper) (L : Nat → Bool) (vs : Nat → Value) (a : Act) : Nat → Act
  | 0 => a
  | k + 1 => if L k then (putsL ops L vs a k).put ((ops[k]?).bind (·.dst)) (vs k) else putsL ops L vs a k

def dstOf (ops : Array Oper) (i : Nat) : Option Tmp := (ops[i]?).bind (·.dst)

/-- The bounds of such a region. -/
def growB (ops : Array Oper) (n size : Nat) : Bool :=
  Region.noSelect ops && decide (n < ops.size) && Region.sinkB .any ops n && Region.chainB .any ops n &&
  Region.seqB .any ops (ops.size - n) n ((List.range n).foldl (fun l i => l.setIfInBounds i true) (Array.replicate ops.size false)) &&
  ((List.range n).all fun i => match ops[i]? with
    | some o => o.guard.isNone && (match o.dst with | some d => decide (d < size) | none => false) && (o.after.all fun e => !Region.binds .any e || decide (e.on < i)) &&
      ((List.range n).all fun j => decide (i = j) || (dstOf ops i != dstOf ops j && (match dstOf ops j with | some d => !(o.looksAt ops).contains d || (decide (j < i) && Region.waitsFor .any ops i j) | none => false)))
    | none => false)

section
variable {ops : Array Oper}

theorem putsL_congr {L L' : Nat → Bool} {vs vs' : Nat → Value} {a : Act} : ∀ k, (∀ j, j < k → L j = L' j ∧ (L j = true → vs j = vs' j)) → putsL ops L vs a k = putsL ops L' vs' a k
  | 0, _ => rfl
  | k + 1, h => by
    obtain ⟨h1, h2⟩ := h k (by omega)
    have ih := putsL_congr (a := a) k (fun j hj => h j (by omega))
    unfold putsL
    rw [ih, ← h1]
    by_cases hL : L k = true
    · rw [if_pos hL, if_pos hL, h2 hL]
    · rw [if_neg hL, if_neg hL]

theorem putsL_size {L : Nat → Bool} {vs : Nat → Value} {a : Act} : ∀ k, (putsL ops L vs a k).tmps.size = a.tmps.size
  | 0 => rfl
  | k + 1 => by
    unfold putsL
    split
    · cases (ops[k]?).bind (·.dst) <;> simp [Act.put, putsL_size k]
    · exact putsL_size k

/-- One more value, put last: it might have been put in its turn. -/
theorem putsL_put {L : Nat → Bool} {vs : Nat → Value} {a : Act} {n i : Nat} {v : Value} (hL : L i = false) (hne : ∀ j, j < n → j ≠ i → ∀ d, dstOf ops j = some d → dstOf ops i ≠ some d) :
    ∀ k, k ≤ n → (i < k → (putsL ops L vs a k).put (dstOf ops i) v = putsL ops (fun j => L j || decide (j = i)) (fun j => if j = i then v else vs j) a k) ∧ (k ≤ i → putsL ops L vs a k = putsL ops (fun j => L j || decide (j = i)) (fun j => if j = i then v else vs j) a k)
  | 0, _ => ⟨fun h => by omega, fun _ => rfl⟩
  | k + 1, hkn => by
    obtain ⟨h1, h2⟩ := putsL_put (a := a) (vs := vs) (v := v) hL hne k (by omega)
    refine ⟨fun h => ?_, fun h => ?_⟩
    · by_cases hki : k = i
      · subst hki
        unfold putsL
        rw [if_neg (by rw [hL]; simp), if_pos (by simp), if_pos rfl, h2 (Nat.le_refl _)]
        rfl
      · have h3 := h1 (by omega)
        unfold putsL
        by_cases hLk : L k = true
        · rw [if_pos hLk, if_pos (by simp [hLk]), if_neg hki, ← h3]
          exact Act.put_comm _ _ _ (fun d hd => hne k (by omega) hki d hd)
        · rw [if_neg hLk, if_neg (by simp [hLk, hki])]
          exact h3
    · unfold putsL
      have hki : k ≠ i := by omega
      rw [h2 (by omega)]
      by_cases hLk : L k = true
      · rw [if_pos hLk, if_pos (by simp [hLk]), if_neg hki]
      · rw [if_neg hLk, if_neg (by simp [hLk, hki])]

theorem eval_putsL {L L' : Nat → Bool} {vs vs' : Nat → Value} {a : Act} {x : Operand} : ∀ k, (∀ j, j < k → (∀ d, dstOf ops j = some d → x ≠ .tmp d) ∨ (L j = L' j ∧ vs j = vs' j)) → (putsL ops L vs a k).eval x = (putsL ops L' vs' a k).eval x
  | 0, _ => rfl
  | k + 1, h => by
    have ih := eval_putsL (a := a) k (fun j hj => h j (by omega))
    unfold putsL
    rcases h k (by omega) with h1 | ⟨h1, h2⟩
    · have e : ∀ b v, (Act.put b ((ops[k]?).bind (·.dst)) v).eval x = b.eval x := fun b v => Act.eval_put h1
      have e1 : ∀ (c : Bool) (b : Act) (v : Value), (if c = true then Act.put b ((ops[k]?).bind (·.dst)) v else b).eval x = b.eval x := fun c b v => by
        cases c
        · rfl
        · exact e b v
      rw [e1, e1, ih]
    · rw [h1, h2]
      by_cases hL : L' k = true
      · rw [if_pos hL, if_pos hL]
        cases hd : (ops[k]?).bind (·.dst) with
        | none => exact ih
        | some d =>
          cases x with
          | tmp t =>
            by_cases ht : d = t
            · subst ht
              by_cases hlt : d < a.tmps.size
              · simp [Act.eval, Act.put, putsL_size, hlt]
              · simp [Act.eval, Act.put, putsL_size, hlt]
            · rw [Act.eval_put (fun d' hd' => by injection hd' with hd'; subst hd'; intro e; injection e with e; exact ht e.symm), Act.eval_put (fun d' hd' => by injection hd' with hd'; subst hd'; intro e; injection e with e; exact ht e.symm)]
              exact ih
          | _ => rfl
      · rw [if_neg hL, if_neg hL]
        exact ih

theorem foldl_set_get (n j : Nat) : ∀ (L : Array Bool), n ≤ L.size → ((List.range n).foldl (fun l i => l.setIfInBounds i true) L).getD j false = (decide (j < n) || L.getD j false) ∧ ((List.range n).foldl (fun l i => l.setIfInBounds i true) L).size = L.size := by
  induction n with
  | zero => intro L _; simp
  | succ n ih =>
    intro L hL
    obtain ⟨h1, h2⟩ := ih L (by omega)
    rw [List.range_succ, List.foldl_append, List.foldl_cons, List.foldl_nil]
    refine ⟨?_, by rw [Array.size_setIfInBounds, h2]⟩
    by_cases hj : n = j
    · subst hj
      have h3 : n < ((List.range n).foldl (fun l i => l.setIfInBounds i true) L).size := by rw [h2]; omega
      simp only [Array.getD_eq_getD_getElem?]
      rw [Array.getElem?_setIfInBounds_self_of_lt h3]
      simp
    · rw [getD_set_ne false hj, h1]
      congr 1
      simp only [decide_eq_decide]
      omega

/-- How many of the first n are not listed. -/
def unlisted (listed : Array Bool) (n : Nat) : Nat := ((List.range n).filter fun i => !listed.getD i false).length

theorem unlisted_set {listed : Array Bool} {n i : Nat} (hi : i < n) (hs : i < listed.size) (hl : listed.getD i false = false) : unlisted listed n = unlisted (listed.setIfInBounds i true) n + 1 := by
  induction n with
  | zero => omega
  | succ n ih =>
    unfold unlisted at *
    rw [List.range_succ, List.filter_append, List.filter_append, List.length_append, List.length_append]
    by_cases h : i = n
    · subst h
      have e : (List.range i).filter (fun j => !listed.getD j false) = (List.range i).filter (fun j => !(listed.setIfInBounds i true).getD j false) := by
        refine List.filter_congr fun j hj => ?_
        rw [getD_set_ne false (by have := List.mem_range.1 hj; omega)]
      rw [e]
      have h1 : (listed.setIfInBounds i true).getD i false = true := by
        rw [Array.getD_eq_getD_getElem?, Array.getElem?_setIfInBounds_self_of_lt hs]
        rfl
      rw [List.filter_cons, List.filter_cons, hl, h1]
      simp
    · have h2 := ih (by omega)
      rw [h2]
      simp only [List.filter_cons, List.filter_nil]
      rw [getD_set_ne false h]
      omega

theorem unlisted_zero {listed : Array Bool} {n : Nat} (h : unlisted listed n = 0) : ∀ j, j < n → listed.getD j false = true := fun j hj => by
  have h1 : (List.range n).filter (fun i => !listed.getD i false) = [] := List.length_eq_zero_iff.1 h
  have h2 := List.filter_eq_nil_iff.1 h1 j (List.mem_range.2 hj)
  simpa using h2

/-- The least of them. -/
theorem unlisted_least {listed : Array Bool} : ∀ {n : Nat}, unlisted listed n ≠ 0 → ∃ i, i < n ∧ listed.getD i false = false ∧ ∀ j, j < i → listed.getD j false = true := by
  intro n h
  have h1 : ∃ i, i < n ∧ listed.getD i false = false := by
    apply Classical.byContradiction
    intro hno
    apply h
    unfold unlisted
    rw [List.length_eq_zero_iff, List.filter_eq_nil_iff]
    intro i hi
    have := List.mem_range.1 hi
    cases hb : listed.getD i false with
    | true => simp
    | false => exact absurd ⟨i, this, hb⟩ hno
  obtain ⟨i, hi, hb⟩ := h1
  induction i using Nat.strongRecOn with
  | _ i ih =>
    by_cases hc : ∃ j, j < i ∧ listed.getD j false = false
    · obtain ⟨j, hj, hb'⟩ := hc
      exact ih j hj (by omega) hb'
    · refine ⟨i, hi, hb, fun j hj => ?_⟩
      cases hb' : listed.getD j false with
      | true => rfl
      | false => exact absurd ⟨j, hj, hb'⟩ hc

/-- What growB says of one of the first n. -/
theorem growB_at {n size i : Nat} (hB : growB ops n size = true) (hi : i < n) : ∃ o d, ops[i]? = some o ∧ o.guard = none ∧ o.dst = some d ∧ d < size ∧ (∀ e ∈ o.after, Region.binds .any e = true → e.on < i) ∧
    (∀ j, j < n → i ≠ j → dstOf ops i ≠ dstOf ops j) ∧ (∀ j, j < n → i ≠ j → ∀ d, dstOf ops j = some d → d ∈ o.looksAt ops → j < i ∧ Region.waitsFor .any ops i j = true) := by
  simp only [growB, Bool.and_eq_true] at hB
  have h := List.all_eq_true.1 hB.2 i (List.mem_range.2 hi)
  cases ho : ops[i]? with
  | none => rw [ho] at h; simp at h
  | some o =>
    rw [ho] at h
    simp only [Bool.and_eq_true] at h
    obtain ⟨⟨⟨h1, h2⟩, h3⟩, h4⟩ := h
    cases hd : o.dst with
    | none => rw [hd] at h2; simp at h2
    | some d =>
      rw [hd] at h2
      refine ⟨o, d, rfl, by simpa using h1, hd, by simpa using h2, fun e he hb => ?_, fun j hj hij => ?_, fun j hj hij d' hd' hm => ?_⟩
      · have := Array.all_eq_true'.1 h3 e he
        rw [hb] at this
        simpa using this
      · have := List.all_eq_true.1 h4 j (List.mem_range.2 hj)
        simp only [Bool.or_eq_true, decide_eq_true_eq, Bool.and_eq_true] at this
        rcases this with h5 | h5
        · exact absurd h5 hij
        · simpa using h5.1
      · have := List.all_eq_true.1 h4 j (List.mem_range.2 hj)
        simp only [Bool.or_eq_true, decide_eq_true_eq, Bool.and_eq_true] at this
        rcases this with h5 | h5
        · exact absurd h5 hij
        · have h6 := h5.2
          rw [hd'] at h6
          simp only [Bool.or_eq_true, Bool.and_eq_true, decide_eq_true_eq] at h6
          rcases h6 with h6 | h6
          · have : (Oper.looksAt ops o).contains d' = true := List.contains_iff_mem.2 hm
            rw [this] at h6
            simp at h6
          · exact h6

/-- The first n in whatever order, then those behind them. -/
theorem wpAny_grow {n : Nat} {R : Nat → Stay} {Q : Exit → Act → World → Prop} {a : Act} {w0 : World} (hB : growB ops n a.tmps.size = true)
    (hop : ∀ i, i < n → ∀ o, ops[i]? = some o → ∀ vs w, Below w0.heap.size w0 w → (∀ j, j < i → Region.waitsFor .any ops i j = true → (R j).p (vs j) w) →
      growsUpon P (R i).p w ((execOp (putsL ops (fun j => decide (j < i)) vs a n).eval o).run P w))
    (hend : ∀ vs w, Below w0.heap.size w0 w → (∀ j, j < n → (R j).p (vs j) w) → wpList P ops Q (ops.toList.drop n) (putsL ops (fun _ => true) vs a n) w) :
    ∀ (m : Nat) (listed : Array Bool) (vs : Nat → Value) (w : World), unlisted listed n = m → HeadInv .any ops n listed → Below w0.heap.size w0 w → (∀ j, j < n → listed.getD j false = true → (R j).p (vs j) w) →
      wpAny P .any ops Q (m + (ops.size - n)) listed (putsL ops (fun j => listed.getD j false) vs a n) w := by
  have hB0 := hB
  simp only [growB, Bool.and_eq_true, decide_eq_true_eq] at hB0
  obtain ⟨⟨⟨⟨⟨hsel, hn⟩, hs⟩, hc⟩, hseq⟩, -⟩ := hB0
  intro m
  induction m with
  | zero =>
    intro listed vs w hu inv hb hr
    have hall := unlisted_zero hu
    have hlen : (ops.toList.drop n).length = ops.size - n := by simp
    have hl : listed = (List.range n).foldl (fun l i => l.setIfInBounds i true) (Array.replicate ops.size false) := by
      obtain ⟨-, h2⟩ := foldl_set_get n 0 (Array.replicate ops.size false) (by simp; omega)
      apply Array.ext
      · rw [h2, inv.size]; simp
      · intro j hj hj'
        have e1 : listed.getD j false = listed[j] := by simp [hj]
        have e2 := (foldl_set_get n j (Array.replicate ops.size false) (by simp; omega)).1
        have e3 : ((List.range n).foldl (fun l i => l.setIfInBounds i true) (Array.replicate ops.size false)).getD j false = ((List.range n).foldl (fun l i => l.setIfInBounds i true) (Array.replicate ops.size false))[j] := by simp only [Array.getD_eq_getD_getElem?, Array.getElem?_eq_getElem hj', Option.getD_some]
        rw [← e1, ← e3, e2, getD_replicate_false, Bool.or_false]
        by_cases hjn : j < n
        · rw [hall j hjn, decide_eq_true hjn]
        · rw [decide_eq_false hjn]
          exact getD_both (inv.tail j (by omega) (by rw [inv.size] at hj; exact hj))
    rw [Nat.zero_add, ← hlen]
    refine wpAny_of_seq (ops.toList.drop n) n listed _ w (fun j => by rw [List.getElem?_drop]; simp) (by rw [hlen, hl]; exact hseq) ?_
    rw [putsL_congr (L' := fun _ => true) (vs' := vs) n (fun j hj => ⟨hall j hj, fun _ => rfl⟩)]
    exact hend vs w hb (fun j hj => hr j hj (hall j hj))
  | succ m ih =>
    intro listed vs w hu inv hb hr
    rw [show m + 1 + (ops.size - n) = (m + (ops.size - n)) + 1 by omega]
    obtain ⟨k, hk, hkl, hkb⟩ := unlisted_least (listed := listed) (n := n) (by omega)
    have hks : k < listed.size := by rw [inv.size]; omega
    refine ⟨fun h0 => ?_, fun i hi => ?_⟩
    · obtain ⟨o, d, ho, _, _, _, haf, _, _⟩ := growB_at hB hk
      have : k ∈ Region.ready .any ops listed := mem_ready.2 ⟨getD_in hks hkl, o, ho, fun e he hbd => hkb _ (haf e he hbd)⟩
      rw [h0] at this
      cases this
    · obtain ⟨hiun, oi, hoi, hall⟩ := mem_ready.1 hi
      have hin : i < n := by
        rcases Nat.lt_or_ge i n with h | h
        · exact h
        · exact absurd hi (tail_waits hs hc hn inv _ k rfl hk (getD_in hks hkl) i h)
      obtain ⟨o, d, ho, hg, hd, hds, haf, hdn, hlk⟩ := growB_at hB hin
      obtain rfl : oi = o := Option.some.inj (hoi.symm.trans ho)
      have hilf : listed.getD i false = false := getD_both hiun
      have his : i < listed.size := by rw [inv.size]; omega
      unfold wpOp
      simp only [hoi]
      rw [if_pos (by simp [Region.wanted, hg])]
      refine .inl (wp_of_grows (b := putsL ops (fun j => decide (j < i)) vs a n) (R := (R i).p) ?_ (hop i hin oi hoi vs w hb fun j hj hw => ?_) ?_)
      · refine execOp_congr oi (fun cs b => Region.noSelect_spec hsel i oi cs b hoi) fun x hx => eval_putsL n fun j hj => ?_
        by_cases hd' : ∀ d, dstOf ops j = some d → x ≠ .tmp d
        · exact .inl hd'
        · refine .inr ⟨?_, rfl⟩
          have hd2 : ∃ d, dstOf ops j = some d ∧ x = .tmp d := by
            apply Classical.byContradiction
            intro hno
            exact hd' fun d hd hx => hno ⟨d, hd, hx⟩
          obtain ⟨d', hj', rfl⟩ := hd2
          by_cases hij : i = j
          · subst hij
            rw [hilf, decide_eq_false (by omega)]
          · obtain ⟨hji, hw⟩ := hlk j hj hij d' hj' (List.mem_append_left _ (List.mem_filterMap.2 ⟨.tmp d', by simpa using hx, rfl⟩))
            obtain ⟨o', ho', e, he, hbd, hon⟩ := Region.waitsFor_spec hw
            obtain rfl : oi = o' := Option.some.inj (hoi.symm.trans ho')
            have := hall e he hbd
            rw [hon] at this
            rw [this, decide_eq_true hji]
      · obtain ⟨o', ho', e, he, hbd, hon⟩ := Region.waitsFor_spec hw
        obtain rfl : oi = o' := Option.some.inj (hoi.symm.trans ho')
        have := hall e he hbd
        rw [hon] at this
        exact hr j (by omega) this
      · intro v w' hbw hrv
        have hdo : dstOf ops i = oi.dst := by simp [dstOf, hoi]
        have hb' : Below w0.heap.size w0 w' := hb.trans (hbw.mono hb.size)
        have hput := (putsL_put (ops := ops) (L := fun j => listed.getD j false) (vs := vs) (a := a) (i := i) (v := v) (n := n) hilf (fun j hjn hj d' hd' => fun h => hdn j hjn (Ne.symm hj) (by rw [hd', h])) n (Nat.le_refl _)).1 hin
        rw [← hdo, hput]
        have e := putsL_congr (ops := ops) (L := fun j => listed.getD j false || decide (j = i)) (L' := fun j => (listed.setIfInBounds i true).getD j false) (vs := fun j => if j = i then v else vs j) (vs' := fun j => if j = i then v else vs j) (a := a) n (fun j hj => ⟨by
          by_cases hji : j = i
          · subst hji
            rw [Array.getD_eq_getD_getElem? (xs := listed.setIfInBounds j true), Array.getElem?_setIfInBounds_self_of_lt his]
            simp
          · rw [getD_set_ne false (Ne.symm hji)]
            simp [hji], fun _ => rfl⟩)
        rw [e]
        refine ih _ _ w' (by have := unlisted_set hin his hilf; omega) (inv.set hi hin) hb' fun j hj hl => ?_
        by_cases hji : j = i
        · subst hji
          rw [if_pos rfl]
          exact hrv
        · rw [if_neg hji]
          rw [getD_set_ne false (Ne.symm hji)] at hl
          exact (R j).mono (hr j hj hl) hbw
end

/-- The first i put in the order of the text. -/
def putsT : List Oper → (Nat → Value) → Act → Nat → Act
  | [], _, a, _ => a
  | o :: l, vs, a, k => putsT l vs (a.put o.dst (vs k)) (k + 1)

theorem putsT_snoc : ∀ (l : List Oper) (o : Oper) (vs : Nat → Value) (a : Act) (k : Nat), putsT (l ++ [o]) vs a k = (putsT l vs a k).put o.dst (vs (k + l.length))
  | [], _, _, _, _ => rfl
  | p :: l, o, vs, a, k => by
    rw [List.cons_append, putsT, putsT, putsT_snoc l o vs _ (k + 1), List.length_cons, show k + 1 + l.length = k + (l.length + 1) by omega]

theorem putsL_text {l : List Oper} {vs : Nat → Value} {a : Act} {i : Nat} : ∀ n, i ≤ n → n ≤ l.length → putsL l.toArray (fun j => decide (j < i)) vs a n = putsT (l.take i) vs a 0
  | 0, hi, _ => by
    obtain rfl : i = 0 := by omega
    rfl
  | n + 1, hi, hl => by
    by_cases h : i = n + 1
    · subst h
      unfold putsL
      rw [if_pos (by simp), putsL_congr (L' := fun j => decide (j < n)) (vs' := vs) n (fun j hj => ⟨by simp [hj]; omega, fun _ => rfl⟩), putsL_text n (Nat.le_refl _) (by omega)]
      have hn : n < l.length := by omega
      rw [List.take_succ_eq_append_getElem hn, putsT_snoc, Nat.zero_add, List.length_take, Nat.min_eq_left (by omega)]
      simp [hn]
    · unfold putsL
      rw [if_neg (by simp; omega)]
      exact putsL_text n (by omega) (by omega)

/-- A region that draws: what each of the first n is asked, in whatever world it may come up; what is behind them. -/
theorem wp_region_grow {id : Nat} {Q : Exit → Act → World → Prop} {a : Act} {w : World} {l : List Oper} (n : Nat) (R : List Stay) (hm : P.follows .mixedOrders = true) (hB : growB l.toArray n a.tmps.size = true)
    (hop : ∀ i, i < n → ∀ o, l[i]? = some o → ∀ (vs : Nat → Value) (w' : World), Below w.heap.size w w' → (∀ j, j < i → Region.waitsFor .any l.toArray i j = true → (R.getD j Stay.free).p (vs j) w') →
      ∀ K : Act → World → Prop, (∀ v w'', Below w'.heap.size w' w'' → (R.getD i Stay.free).p v w'' → K ((putsT (l.take i) vs a 0).put o.dst v) w'') → wpList P #[o] (fun e a w => e = .normal ∧ K a w) [o] (putsT (l.take i) vs a 0) w')
    (hend : ∀ (vs : Nat → Value) (w' : World), Below w.heap.size w w' → (∀ j, j < n → (R.getD j Stay.free).p (vs j) w') → wpList P l.toArray Q (l.drop n) (putsT (l.take n) vs a 0) w') :
    (Code.region id l.toArray true).wp P Q a w := by
  have hn : n < l.length := by
    have h := hB
    simp only [growB, Bool.and_eq_true, decide_eq_true_eq] at h
    simpa using h.1.1.1.1.2
  have hd : Below w.heap.size w w.drew := (Below.refl _ _).drew
  refine wp_region_any hm ?_
  have inv0 : HeadInv .any l.toArray n (Array.replicate l.toArray.size false) :=
    ⟨by simp, fun j oj _ hl => (by rw [getD_replicate_false] at hl; cases hl), fun t _ ht => getD_in (by simpa using ht) (getD_replicate_false _ _)⟩
  have hu : unlisted (Array.replicate l.toArray.size false) n = n := by
    unfold unlisted
    rw [List.filter_eq_self.2 (fun j _ => by rw [getD_replicate_false]; rfl), List.length_range]
  have H := wpAny_grow (P := P) (ops := l.toArray) (n := n) (R := fun j => R.getD j Stay.free) (Q := Q) (a := a) (w0 := w.drew) hB (fun i hi o ho vs w' hb hr => by
      rw [putsL_text n (by omega) (by omega)]
      obtain ⟨o', d, ho', hg, hdo, hds, -⟩ := growB_at hB hi
      obtain rfl : o = o' := Option.some.inj (ho.symm.trans ho')
      have hsz : (putsT (l.take i) vs a 0).tmps.size = a.tmps.size := by rw [← putsL_text n (by omega) (by omega), putsL_size]
      exact grows_of_wp hdo (by rw [hsz]; exact hds) hg (hop i hi o (by simpa using ho) vs w' (hd.trans hb) hr))
    (fun vs w' hb hr => by
      rw [putsL_congr (L' := fun j => decide (j < n)) (vs' := vs) n (fun j hj => ⟨by simp [hj], fun _ => rfl⟩), putsL_text n (Nat.le_refl _) (by omega)]
      exact hend vs w' (hd.trans hb) hr)
    n (Array.replicate l.toArray.size false) (fun _ => undef) w.drew hu inv0 (Below.refl _ _) (fun j hj h => by rw [getD_replicate_false] at h; cases h)
  rw [show n + (l.toArray.size - n) = l.toArray.size by simp; omega] at H
  rw [putsL_congr (L' := fun j => decide (j < 0)) (vs' := fun _ => undef) n (fun j hj => ⟨by rw [getD_replicate_false]; simp, fun _ => rfl⟩), putsL_text n (Nat.zero_le _) (by omega)] at H
  exact H
end

end Go.Proofs.YtlkgopoicpnacaaGreatDoor

namespace Go.Proofs.YtlkgopoicpnacaaGreatDoor
open Go.RowKit
set_option linter.unusedVariables false

set_option maxRecDepth 10000 in
set_option maxHeartbeats 3200000 in
theorem implScopy_any (a : Option Addr) (n ca : Nat) (X : List ByteArray) (a' : Option Addr) (n' ca' : Nat) (Y : List ByteArray) (ep nx : Int) (ua : Option Addr) (un uc lo : Nat) (l : List UE) (w : World) (h1 : Strs w a n X) (h2 : Strs w a' n' Y) (hn : n ≤ 1048576) (hn' : n' ≤ 1048576) (hu : UpRow w lo (.slice ua un uc) l) (hun : un = l.length) (hul : un ≤ 1048576) (hz : ∀ e ∈ l, e.n ≤ 1099511627776) :
    Calls Tryz.prog 34 #[.agg #[.slice a n ca, .slice a' n' ca', .int .i64 ep, .int .i64 nx, .slice ua un uc]] w fun e w' => (∃ v, e = .returned v ∧ AnsS w.heap.size X Y ep nx (l.map UE.u) v w') ∧ Below w.heap.size w w' := by
  have HLn : Hid (un = l.length ∧ ∀ e ∈ l, e.n ≤ 1099511627776) := ⟨hun, hz⟩
  have HLen : Hid (∀ l2 : List UE, l2.map UE.u = l.map UE.u → un = l2.length) := fun l2 h => by have := congrArg List.length h; simp at this; rw [hun, this]
  obtain ⟨W2, hW2⟩ : ∃ W2, (w.alloc (.cells #[.slice a n ca, .slice a' n' ca', .int .i64 ep, .int .i64 nx, .slice ua un uc] 29)).alloc (.cells #[.slice none 0 0, .slice none 0 0, .int .i64 0, .int .i64 0, .slice none 0 0] 29) = W2 := ⟨_, rfl⟩
  have HE : Hid ((w.alloc (.cells #[.slice a n ca, .slice a' n' ca', .int .i64 ep, .int .i64 nx, .slice ua un uc] 29)).alloc (.cells #[.slice none 0 0, .slice none 0 0, .int .i64 0, .int .i64 0, .slice none 0 0] 29) = W2) := hW2
  have HB2 : Hid (Below w.heap.size w W2) := by show Below _ _ _; rw [← hW2]; exact ((Below.refl _ _).alloc (Nat.le_refl _) _).alloc (by simp) _
  have q1 : BoxN W2 w.heap.size 29 [.slice a n ca, .slice a' n' ca', .int .i64 ep, .int .i64 nx, .slice ua un uc] := by rw [← hW2]; exact (BoxN.new _ _ _).alloc _
  have q2 : BoxN W2 (w.heap.size + 1) 29 [.slice none 0 0, .slice none 0 0, .int .i64 0, .int .i64 0, .slice none 0 0] := by
    rw [← hW2]
    have := BoxN.new (w.alloc (.cells #[.slice a n ca, .slice a' n' ca', .int .i64 ep, .int .i64 nx, .slice ua un uc] 29)) 29 [.slice none 0 0, .slice none 0 0, .int .i64 0, .int .i64 0, .slice none 0 0]
    rwa [World.size_alloc] at this
  have HQ : Hid (∀ W, Below W2.heap.size W2 W → BoxN W w.heap.size 29 [.slice a n ca, .slice a' n' ca', .int .i64 ep, .int .i64 nx, .slice ua un uc] ∧ BoxN W (w.heap.size + 1) 29 [.slice none 0 0, .slice none 0 0, .int .i64 0, .int .i64 0, .slice none 0 0]) := fun W h => ⟨q1.stays h, q2.stays h⟩
  have HX : Hid (∀ W, Below W2.heap.size W2 W → Strs W a n X ∧ Strs W a' n' Y ∧ UpRow W lo (.slice ua un uc) l) := fun W h => by
    have hw := HB2.out.trans (h.mono HB2.out.size)
    exact ⟨h1.below hw, h2.below hw, hu.stays hw⟩
  have hs2 : w.heap.size + 1 < W2.heap.size := q2.lt
  clear hW2 q1 q2 h1 h2 hu hun hz
  go_enter Tryz.func34, Tryz.ntmps34
  go_upto_region 1 with fail
  rw [HE.out]
  clear HE
  refine wp_region_grow 11 [Stay.val (.pointer (some ⟨w.heap.size, 0, none⟩)), Stay.val (.agg #[.slice a n ca, .slice a' n' ca']), ⟨fun v W => ∃ A1 C1 A2 C2, v = .agg #[.slice A1 X.length C1, .slice A2 Y.length C2] ∧ OwnSt W W2.heap.size (.slice A1 X.length C1) X.length X ∧ OwnSt W W2.heap.size (.slice A2 Y.length C2) Y.length Y ∧ ∀ q, A1.map (·.block) = some q → A2.map (·.block) ≠ some q, fun ⟨A1, C1, A2, C2, h0, h1, h2, h3⟩ hb => ⟨A1, C1, A2, C2, h0, h1.below hb, h2.below hb, h3⟩⟩, Stay.val (.pointer (some ⟨w.heap.size, 2, none⟩)), Stay.val (.int .i64 ep), Stay.val (.pointer (some ⟨w.heap.size, 3, none⟩)), Stay.val (.int .i64 nx), Stay.val (.pointer (some ⟨w.heap.size, 4, none⟩)), Stay.val (.slice ua un uc), ⟨fun v W => ∃ va vc l2, v = .slice va un vc ∧ UpRow W W2.heap.size (.slice va un vc) l2 ∧ l2.map UE.u = l.map UE.u, fun ⟨va, vc, l2, h0, h1, h2⟩ hb => ⟨va, vc, l2, h0, h1.stays hb, h2⟩⟩, ⟨fun v W => ∃ A1 C1 A2 C2 va vc l2, v = .agg #[.slice A1 X.length C1, .slice A2 Y.length C2, .int .i64 ep, .int .i64 nx, .slice va un vc] ∧ StoAt W W2.heap.size A1 X.length C1 X A2 Y.length C2 Y va un vc l2 ∧ l2.map UE.u = l.map UE.u, fun ⟨A1, C1, A2, C2, va, vc, l2, h0, h1, h2⟩ hb => ⟨A1, C1, A2, C2, va, vc, l2, h0, h1.stays hb, h2⟩⟩] (by kernel_rfl) (by kernel_rfl) ?_ ?_
  · refine (all_succ (all_succ (all_succ (all_succ (all_succ (all_succ (all_succ (all_succ (all_succ (all_succ (all_succ all_zero ?g0) ?g1) ?g2) ?g3) ?g4) ?g5) ?g6) ?g7) ?g8) ?g9) ?g10)
    case g0 =>
      intro o ho vs W hb hd
      have HBW : Hid (Below w.heap.size w W) := HB2.out.trans (hb.mono HB2.out.size)
      have HS : Hid (W2.heap.size ≤ W.heap.size) := hb.size
      have HXW : Hid (Below W2.heap.size W2 W) := hb
      clear hb
      obtain rfl := Option.some.inj ho
      clear ho hd
      intro K hK
      simp only [List.take, putsT, put_mk, List.setIfInBounds_toArray, List.set_cons_succ, List.set_cons_zero] at hK ⊢
      have HK : Hid _ := hK
      clear hK
      go_wp2_with fail
      exact HK.out _ _ (Below.refl _ _) rfl
    case g1 =>
      intro o ho vs W hb hd
      have HBW : Hid (Below w.heap.size w W) := HB2.out.trans (hb.mono HB2.out.size)
      have HS : Hid (W2.heap.size ≤ W.heap.size) := hb.size
      have HXW : Hid (Below W2.heap.size W2 W) := hb
      clear hb
      obtain rfl := Option.some.inj ho
      have h0 : vs 0 = _ := hd 0 (by decide) (by kernel_rfl)
      clear ho hd
      have hq := (HQ.out _ HXW.out).1
      have c0 := hq.cell 0 rfl
      have c1 := hq.cell 1 rfl
      clear hq
      intro K hK
      simp only [List.take, putsT, put_mk, List.setIfInBounds_toArray, List.set_cons_succ, List.set_cons_zero] at hK ⊢
      rw [h0] at hK ⊢
      clear h0
      have HK : Hid _ := hK
      clear hK
      go_wp2_with fail
      exact HK.out _ _ (Below.refl _ _) rfl
    case g2 =>
      intro o ho vs W hb hd
      have HBW : Hid (Below w.heap.size w W) := HB2.out.trans (hb.mono HB2.out.size)
      have HS : Hid (W2.heap.size ≤ W.heap.size) := hb.size
      have HXW : Hid (Below W2.heap.size W2 W) := hb
      clear hb
      obtain rfl := Option.some.inj ho
      have h1 : vs 1 = _ := hd 1 (by decide) (by kernel_rfl)
      clear ho hd
      intro K hK
      simp only [List.take, putsT, put_mk, List.setIfInBounds_toArray, List.set_cons_succ, List.set_cons_zero] at hK ⊢
      rw [h1] at hK ⊢
      clear h1
      have HK : Hid _ := hK
      clear hK
      go_wp2_with fail
      refine (implDcopy_any a n ca X a' n' ca' Y W (HX.out _ HXW.out).1 (HX.out _ HXW.out).2.1 (by omega) (by omega)).mono ?_
      rintro e w' ⟨⟨v1, rfl, A1, C1, A2, C2, rfl, own1, own1', hap⟩, hb1⟩
      go_wp2_with fail
      exact HK.out _ _ hb1 ⟨_, _, _, _, rfl, own1.low HS.out, own1'.low HS.out, hap⟩
    case g3 =>
      intro o ho vs W hb hd
      have HBW : Hid (Below w.heap.size w W) := HB2.out.trans (hb.mono HB2.out.size)
      have HS : Hid (W2.heap.size ≤ W.heap.size) := hb.size
      have HXW : Hid (Below W2.heap.size W2 W) := hb
      clear hb
      obtain rfl := Option.some.inj ho
      clear ho hd
      intro K hK
      simp only [List.take, putsT, put_mk, List.setIfInBounds_toArray, List.set_cons_succ, List.set_cons_zero] at hK ⊢
      have HK : Hid _ := hK
      clear hK
      go_wp2_with fail
      exact HK.out _ _ (Below.refl _ _) rfl
    case g4 =>
      intro o ho vs W hb hd
      have HBW : Hid (Below w.heap.size w W) := HB2.out.trans (hb.mono HB2.out.size)
      have HS : Hid (W2.heap.size ≤ W.heap.size) := hb.size
      have HXW : Hid (Below W2.heap.size W2 W) := hb
      clear hb
      obtain rfl := Option.some.inj ho
      have h3 : vs 3 = _ := hd 3 (by decide) (by kernel_rfl)
      clear ho hd
      have hq := (HQ.out _ HXW.out).1
      have c2 := hq.cell 2 rfl
      clear hq
      intro K hK
      simp only [List.take, putsT, put_mk, List.setIfInBounds_toArray, List.set_cons_succ, List.set_cons_zero] at hK ⊢
      rw [h3] at hK ⊢
      clear h3
      have HK : Hid _ := hK
      clear hK
      go_wp2_with fail
      exact HK.out _ _ (Below.refl _ _) rfl
    case g5 =>
      intro o ho vs W hb hd
      have HBW : Hid (Below w.heap.size w W) := HB2.out.trans (hb.mono HB2.out.size)
      have HS : Hid (W2.heap.size ≤ W.heap.size) := hb.size
      have HXW : Hid (Below W2.heap.size W2 W) := hb
      clear hb
      obtain rfl := Option.some.inj ho
      clear ho hd
      intro K hK
      simp only [List.take, putsT, put_mk, List.setIfInBounds_toArray, List.set_cons_succ, List.set_cons_zero] at hK ⊢
      have HK : Hid _ := hK
      clear hK
      go_wp2_with fail
      exact HK.out _ _ (Below.refl _ _) rfl
    case g6 =>
      intro o ho vs W hb hd
      have HBW : Hid (Below w.heap.size w W) := HB2.out.trans (hb.mono HB2.out.size)
      have HS : Hid (W2.heap.size ≤ W.heap.size) := hb.size
      have HXW : Hid (Below W2.heap.size W2 W) := hb
      clear hb
      obtain rfl := Option.some.inj ho
      have h5 : vs 5 = _ := hd 5 (by decide) (by kernel_rfl)
      clear ho hd
      have hq := (HQ.out _ HXW.out).1
      have c3 := hq.cell 3 rfl
      clear hq
      intro K hK
      simp only [List.take, putsT, put_mk, List.setIfInBounds_toArray, List.set_cons_succ, List.set_cons_zero] at hK ⊢
      rw [h5] at hK ⊢
      clear h5
      have HK : Hid _ := hK
      clear hK
      go_wp2_with fail
      exact HK.out _ _ (Below.refl _ _) rfl
    case g7 =>
      intro o ho vs W hb hd
      have HBW : Hid (Below w.heap.size w W) := HB2.out.trans (hb.mono HB2.out.size)
      have HS : Hid (W2.heap.size ≤ W.heap.size) := hb.size
      have HXW : Hid (Below W2.heap.size W2 W) := hb
      clear hb
      obtain rfl := Option.some.inj ho
      clear ho hd
      intro K hK
      simp only [List.take, putsT, put_mk, List.setIfInBounds_toArray, List.set_cons_succ, List.set_cons_zero] at hK ⊢
      have HK : Hid _ := hK
      clear hK
      go_wp2_with fail
      exact HK.out _ _ (Below.refl _ _) rfl
    case g8 =>
      intro o ho vs W hb hd
      have HBW : Hid (Below w.heap.size w W) := HB2.out.trans (hb.mono HB2.out.size)
      have HS : Hid (W2.heap.size ≤ W.heap.size) := hb.size
      have HXW : Hid (Below W2.heap.size W2 W) := hb
      clear hb
      obtain rfl := Option.some.inj ho
      have h7 : vs 7 = _ := hd 7 (by decide) (by kernel_rfl)
      clear ho hd
      have hq := (HQ.out _ HXW.out).1
      have c4 := hq.cell 4 rfl
      clear hq
      intro K hK
      simp only [List.take, putsT, put_mk, List.setIfInBounds_toArray, List.set_cons_succ, List.set_cons_zero] at hK ⊢
      rw [h7] at hK ⊢
      clear h7
      have HK : Hid _ := hK
      clear hK
      go_wp2_with fail
      exact HK.out _ _ (Below.refl _ _) rfl
    case g9 =>
      intro o ho vs W hb hd
      have HBW : Hid (Below w.heap.size w W) := HB2.out.trans (hb.mono HB2.out.size)
      have HS : Hid (W2.heap.size ≤ W.heap.size) := hb.size
      have HXW : Hid (Below W2.heap.size W2 W) := hb
      clear hb
      obtain rfl := Option.some.inj ho
      have h8 : vs 8 = _ := hd 8 (by decide) (by kernel_rfl)
      clear ho hd
      intro K hK
      simp only [List.take, putsT, put_mk, List.setIfInBounds_toArray, List.set_cons_succ, List.set_cons_zero] at hK ⊢
      rw [h8] at hK ⊢
      clear h8
      have HK : Hid _ := hK
      clear hK
      go_wp2_with fail
      refine (implEachUp_any ua un uc lo l W (HX.out _ HXW.out).2.2 HLn.out.1 hul HLn.out.2).mono ?_
      rintro e w' ⟨⟨va, vc, l2, rfl, hr, hm⟩, hb1⟩
      go_wp2_with fail
      exact HK.out _ _ hb1 ⟨_, _, _, rfl, hr.low HS.out, hm⟩
    case g10 =>
      intro o ho vs W hb hd
      have HBW : Hid (Below w.heap.size w W) := HB2.out.trans (hb.mono HB2.out.size)
      have HS : Hid (W2.heap.size ≤ W.heap.size) := hb.size
      have HXW : Hid (Below W2.heap.size W2 W) := hb
      clear hb
      obtain rfl := Option.some.inj ho
      obtain ⟨A1, C1, A2, C2, h2, o1, o2, hap⟩ := hd 2 (by decide) (by kernel_rfl)
      have h4 : vs 4 = _ := hd 4 (by decide) (by kernel_rfl)
      have h6 : vs 6 = _ := hd 6 (by decide) (by kernel_rfl)
      obtain ⟨va, vc, l2, h9, hr, hm⟩ := hd 9 (by decide) (by kernel_rfl)
      clear ho hd
      have HA : Hid (StoAt W W2.heap.size A1 X.length C1 X A2 Y.length C2 Y va un vc l2) := ⟨o1, o2, hap, hr, HLen.out l2 hm⟩
      clear o1 o2 hap hr
      intro K hK
      simp only [List.take, putsT, put_mk, List.setIfInBounds_toArray, List.set_cons_succ, List.set_cons_zero] at hK ⊢
      rw [h2, h4, h6, h9] at hK ⊢
      clear h2 h4 h6 h9
      have HK : Hid _ := hK
      clear hK
      go_wp2_with fail
      exact HK.out _ _ (Below.refl _ _) ⟨_, _, _, _, _, _, _, rfl, HA.out, hm⟩
  intro vs W hb hd
  have HBW : Hid (Below w.heap.size w W) := HB2.out.trans (hb.mono HB2.out.size)
  have HS : Hid (W2.heap.size ≤ W.heap.size) := hb.size
  have HXW : Hid (Below W2.heap.size W2 W) := hb
  clear hb
  simp only [List.take, List.drop, putsT, put_mk, List.setIfInBounds_toArray, List.set_cons_succ, List.set_cons_zero]
  obtain ⟨A1, C1, A2, C2, va, vc, l2, h10, hS, hM⟩ := hd 10 (by decide)
  have h10 : vs 10 = _ := h10
  rw [h10]
  clear h10 hd HS
  have HSt : Hid (StoAt W W2.heap.size A1 X.length C1 X A2 Y.length C2 Y va un vc l2) := hS
  have HM : Hid (l2.map UE.u = l.map UE.u) := hM
  have hqr := (HQ.out _ HXW.out).2
  have r0 := hqr.cell 0 rfl
  have r1 := hqr.cell 1 rfl
  have r2 := hqr.cell 2 rfl
  have r3 := hqr.cell 3 rfl
  have r4 := hqr.cell 4 rfl
  have f0 := hqr.frozen 0
  have f1 := hqr.frozen 1
  have f2 := hqr.frozen 2
  have f3 := hqr.frozen 3
  have f4 := hqr.frozen 4
  clear hqr hS hM HXW HQ HX
  go_wp2_with fail
  refine bodyPost_ret (v := .agg #[.slice A1 X.length C1, .slice A2 Y.length C2, .int .i64 ep, .int .i64 nx, .slice va un vc]) (by simp [results, Tryz.f34, go_sem, r0, r1, r2, r3, r4]) rfl ?_
  refine ⟨⟨_, rfl, A1, X.length, C1, A2, Y.length, C2, va, un, vc, l2, rfl, ?_, HM.out⟩, ?_⟩
  · exact (((((HSt.out.setLow (by omega) _).setLow (by omega) _).setLow (by omega) _).setLow (by omega) _).setLow (by omega) _).low (by omega)
  · exact ((((HBW.out.setCell (by dsimp only; omega) _).setCell (by dsimp only; omega) _).setCell (by dsimp only; omega) _).setCell (by dsimp only; omega) _).setCell (by dsimp only; omega) _

end Go.Proofs.YtlkgopoicpnacaaGreatDoor

namespace Go.Proofs.YtlkgopoicpnacaaGreatDoor
open Go.RowKit
set_option linter.unusedVariables false

set_option maxRecDepth 10000 in
set_option maxHeartbeats 3200000 in
theorem implVcopy_any (a : Option Addr) (n ca : Nat) (X : List ByteArray) (a' : Option Addr) (n' ca' : Nat) (Y : List ByteArray) (ep nx : Int) (ua : Option Addr) (un uc lo : Nat) (l : List UE) (ha : Option Addr) (hn hc : Nat) (hs : List Hd) (w : World) (h1 : Strs w a n X) (h2 : Strs w a' n' Y) (hln : n ≤ 1048576) (hln' : n' ≤ 1048576) (hu : UpRow w lo (.slice ua un uc) l) (hun : un = l.length) (hul : un ≤ 1048576) (hz : ∀ e ∈ l, e.n ≤ 1099511627776) (hh : Helds w ha hn hs) (hhl : hn ≤ 1048576) :
    Calls Tryz.prog 15 #[.agg #[.slice a n ca, .slice a' n' ca', .int .i64 ep, .int .i64 nx, .slice ua un uc, .slice ha hn hc]] w fun e w' => (∃ v, e = .returned v ∧ AnsV true w.heap.size X Y ep nx (l.map UE.u) hs v w') ∧ Below w.heap.size w w' := by
  obtain ⟨W2, hW2⟩ : ∃ W2, (w.alloc (.cells #[.slice a n ca, .slice a' n' ca', .int .i64 ep, .int .i64 nx, .slice ua un uc, .slice ha hn hc] 32)).alloc (.cells #[.slice none 0 0, .slice none 0 0, .int .i64 0, .int .i64 0, .slice none 0 0, .slice none 0 0] 32) = W2 := ⟨_, rfl⟩
  have HE : Hid ((w.alloc (.cells #[.slice a n ca, .slice a' n' ca', .int .i64 ep, .int .i64 nx, .slice ua un uc, .slice ha hn hc] 32)).alloc (.cells #[.slice none 0 0, .slice none 0 0, .int .i64 0, .int .i64 0, .slice none 0 0, .slice none 0 0] 32) = W2) := hW2
  have HB2 : Hid (Below w.heap.size w W2) := by show Below _ _ _; rw [← hW2]; exact ((Below.refl _ _).alloc (Nat.le_refl _) _).alloc (by simp) _
  have HZ2 : Hid (W2.heap.size = w.heap.size + 2) := by show _ = _; rw [← hW2]; simp
  have q1 : BoxN W2 w.heap.size 32 [.slice a n ca, .slice a' n' ca', .int .i64 ep, .int .i64 nx, .slice ua un uc, .slice ha hn hc] := by rw [← hW2]; exact (BoxN.new _ _ _).alloc _
  have q2 : BoxN W2 (w.heap.size + 1) 32 [.slice none 0 0, .slice none 0 0, .int .i64 0, .int .i64 0, .slice none 0 0, .slice none 0 0] := by
    rw [← hW2]
    have := BoxN.new (w.alloc (.cells #[.slice a n ca, .slice a' n' ca', .int .i64 ep, .int .i64 nx, .slice ua un uc, .slice ha hn hc] 32)) 32 [.slice none 0 0, .slice none 0 0, .int .i64 0, .int .i64 0, .slice none 0 0, .slice none 0 0]
    rwa [World.size_alloc] at this
  have HQ : Hid (∀ W, Below W2.heap.size W2 W → BoxN W w.heap.size 32 [.slice a n ca, .slice a' n' ca', .int .i64 ep, .int .i64 nx, .slice ua un uc, .slice ha hn hc] ∧ BoxN W (w.heap.size + 1) 32 [.slice none 0 0, .slice none 0 0, .int .i64 0, .int .i64 0, .slice none 0 0, .slice none 0 0]) := fun W h => ⟨q1.stays h, q2.stays h⟩
  have HX : Hid (∀ W, Below W2.heap.size W2 W → Strs W a n X ∧ Strs W a' n' Y ∧ UpRow W lo (.slice ua un uc) l ∧ Helds W ha hn hs) := fun W h => by
    have hw := HB2.out.trans (h.mono HB2.out.size)
    exact ⟨h1.below hw, h2.below hw, hu.stays hw, hh.below hw⟩
  have HCp : Hid (∀ W, Below W2.heap.size W2 W → Calls Tryz.prog 34 #[.agg #[.slice a n ca, .slice a' n' ca', .int .i64 ep, .int .i64 nx, .slice ua un uc]] W fun e w' => (∃ b cb b' cb' va vc l', e = .returned (.agg #[.slice b n cb, .slice b' n' cb', .int .i64 ep, .int .i64 nx, .slice va un vc]) ∧ StoAt w' W.heap.size b n cb X b' n' cb' Y va un vc l' ∧ l'.map UE.u = l.map UE.u) ∧ Below W.heap.size W w') := fun W hb => by
    refine (implScopy_any a n ca X a' n' ca' Y ep nx ua un uc lo l W (HX.out _ hb).1 (HX.out _ hb).2.1 hln hln' (HX.out _ hb).2.2.1 hun hul hz).mono ?_
    rintro e y1 ⟨⟨v1, rfl, hv1⟩, hb1⟩
    obtain ⟨b, cb, b', cb', va, vc, l', rfl, hs1, hm1⟩ := hv1.get
    rw [List.length_map, ← hun, h1.1, h2.1] at hs1 ⊢
    exact ⟨⟨b, cb, b', cb', va, vc, l', rfl, hs1, hm1⟩, hb1⟩
  have hne : w.heap.size ≠ w.heap.size + 1 := by omega
  have HL : Hid (un = l.length ∧ (∀ e ∈ l, e.n ≤ 1099511627776) ∧ hs.length = hn ∧ ∀ s ∈ hs, hd64 s) := ⟨hun, hz, hh.1, hh.2.1⟩
  have HBd : Hid (Below W2.heap.size W2 W2.drew) := (Below.refl _ _).drew
  have hs2 : w.heap.size + 1 < W2.heap.size := q2.lt
  clear hW2 q1 q2 h1 h2 hu hun hz hh
  go_enter Tryz.func15, Tryz.ntmps15
  go_upto_region 1 with fail
  rw [HE.out]
  clear HE
  obtain ⟨c0, c1, c2, c3, c4, c5⟩ := (show _ ∧ _ ∧ _ ∧ _ ∧ _ ∧ _ from ⟨BoxN.cell (HQ.out _ (Below.refl _ _)).1 0 rfl, BoxN.cell (HQ.out _ (Below.refl _ _)).1 1 rfl, BoxN.cell (HQ.out _ (Below.refl _ _)).1 2 rfl, BoxN.cell (HQ.out _ (Below.refl _ _)).1 3 rfl, BoxN.cell (HQ.out _ (Below.refl _ _)).1 4 rfl, BoxN.cell (HQ.out _ (Below.refl _ _)).1 5 rfl⟩)
  obtain ⟨d0, d1, d2, d3, d4, d5⟩ := (show _ ∧ _ ∧ _ ∧ _ ∧ _ ∧ _ from ⟨BoxN.cell (HQ.out _ HBd.out).1 0 rfl, BoxN.cell (HQ.out _ HBd.out).1 1 rfl, BoxN.cell (HQ.out _ HBd.out).1 2 rfl, BoxN.cell (HQ.out _ HBd.out).1 3 rfl, BoxN.cell (HQ.out _ HBd.out).1 4 rfl, BoxN.cell (HQ.out _ HBd.out).1 5 rfl⟩)
  go_region_held3 (fun W => W.cell? ⟨w.heap.size, 0, none⟩ = some (.slice a n ca) ∧ W.cell? ⟨w.heap.size, 1, none⟩ = some (.slice a' n' ca') ∧ W.cell? ⟨w.heap.size, 2, none⟩ = some (.int .i64 ep) ∧ W.cell? ⟨w.heap.size, 3, none⟩ = some (.int .i64 nx) ∧ W.cell? ⟨w.heap.size, 4, none⟩ = some (.slice ua un uc) ∧ W.cell? ⟨w.heap.size, 5, none⟩ = some (.slice ha hn hc)) (first | with_reducible exact ⟨m0, m1, m2, m3, m4, m5⟩ | with_reducible exact ⟨cellD_kept hne (cellD_kept hne (cellD_kept hne (cellD_kept hne (cellD_kept hne (cellD_kept hne (m0)))))), cellD_kept hne (cellD_kept hne (cellD_kept hne (cellD_kept hne (cellD_kept hne (cellD_kept hne (m1)))))), cellD_kept hne (cellD_kept hne (cellD_kept hne (cellD_kept hne (cellD_kept hne (cellD_kept hne (m2)))))), cellD_kept hne (cellD_kept hne (cellD_kept hne (cellD_kept hne (cellD_kept hne (cellD_kept hne (m3)))))), cellD_kept hne (cellD_kept hne (cellD_kept hne (cellD_kept hne (cellD_kept hne (cellD_kept hne (m4)))))), cellD_kept hne (cellD_kept hne (cellD_kept hne (cellD_kept hne (cellD_kept hne (cellD_kept hne (m5))))))⟩ | with_reducible exact ⟨e0, e1, e2, e3, e4, e5⟩ | with_reducible exact ⟨d0, d1, d2, d3, d4, d5⟩ | exact ⟨c0, c1, c2, c3, c4, c5⟩ | fail) (first
    | (go_at_call 35; refine (cloneH_any ha hn hc hs _ (HX.out _ hB1).2.2.2 hhl).mono ?_; rintro e y2 ⟨A, C, rfl, own2, hb2⟩
       have hB2 : Below W2.heap.size W2 y2 := hB1.trans (hb2.mono hB1.size)
       have m0 := BoxN.cell (HQ.out _ hB2).1 0 rfl
       have m1 := BoxN.cell (HQ.out _ hB2).1 1 rfl
       have m2 := BoxN.cell (HQ.out _ hB2).1 2 rfl
       have m3 := BoxN.cell (HQ.out _ hB2).1 3 rfl
       have m4 := BoxN.cell (HQ.out _ hB2).1 4 rfl
       have m5 := BoxN.cell (HQ.out _ hB2).1 5 rfl
       have r0 := BoxN.cell (HQ.out _ hB2).2 0 rfl
       have r1 := BoxN.cell (HQ.out _ hB2).2 1 rfl
       have r2 := BoxN.cell (HQ.out _ hB2).2 2 rfl
       have r3 := BoxN.cell (HQ.out _ hB2).2 3 rfl
       have r4 := BoxN.cell (HQ.out _ hB2).2 4 rfl
       have r5 := BoxN.cell (HQ.out _ hB2).2 5 rfl
       have f0 := BoxN.frozen (HQ.out _ hB2).2 0
       have f1 := BoxN.frozen (HQ.out _ hB2).2 1
       have f2 := BoxN.frozen (HQ.out _ hB2).2 2
       have f3 := BoxN.frozen (HQ.out _ hB2).2 3
       have f4 := BoxN.frozen (HQ.out _ hB2).2 4
       have f5 := BoxN.frozen (HQ.out _ hB2).2 5)
    | (go_at_call 34; refine (HCp.out _ HBd.out).mono ?_; rintro e y1 ⟨⟨b, cb, b', cb', va, vc, l', rfl, hs1, hm1⟩, hb1⟩
       have hB1 : Below W2.heap.size W2 y1 := HBd.out.trans (hb1.mono (Nat.le_refl _))
       have e0 := BoxN.cell (HQ.out _ hB1).1 0 rfl
       have e1 := BoxN.cell (HQ.out _ hB1).1 1 rfl
       have e2 := BoxN.cell (HQ.out _ hB1).1 2 rfl
       have e3 := BoxN.cell (HQ.out _ hB1).1 3 rfl
       have e4 := BoxN.cell (HQ.out _ hB1).1 4 rfl
       have e5 := BoxN.cell (HQ.out _ hB1).1 5 rfl)
    | fail)
  all_goals
    have HF : Hid (StoAt y2 (w.heap.size + 2) b n cb X b' n' cb' Y va un vc l' ∧ l'.map UE.u = l.map UE.u ∧ OwnH y2 y1.heap.size A hn C hs ∧ Below w.heap.size w y2 ∧ StoIn b b' va l' y1.heap.size ∧ w.heap.size + 2 ≤ y1.heap.size) := by
      have hz := HZ2.out
      have hy := hB1.size
      exact ⟨(hs1.stays hb2).low (by show _ ≤ W2.heap.size; omega), hm1, own2, HB2.out.trans (hB2.mono HB2.out.size), hs1.inn, by omega⟩
    have hy1 : w.heap.size + 2 ≤ y1.heap.size := HF.out.2.2.2.2.2
    clear hs1 hm1 own2 hb1 hb2 hB1 hB2 e0 e1 e2 e3 e4 e5 m0 m1 m2 m3 m4 m5 c0 c1 c2 c3 c4 c5 d0 d1 d2 d3 d4 d5 HQ HX HBd HB2
    go_wp2_with fail
    refine bodyPost_ret (v := .agg #[.slice b n cb, .slice b' n' cb', .int .i64 ep, .int .i64 nx, .slice va un vc, .slice A hn C]) (by simp [results, Tryz.f15, go_sem, r0, r1, r2, r3, r4, r5]) rfl ?_
    refine ⟨⟨_, rfl, b, n, cb, b', n', cb', va, un, vc, l', A, hn, C, rfl, ⟨?_, ?_⟩, HF.out.2.1, ?_⟩, ?_⟩
    · exact ((((((HF.out.1.setLow (by omega) _).setLow (by omega) _).setLow (by omega) _).setLow (by omega) _).setLow (by omega) _).setLow (by omega) _).low (by omega)
    · exact ((((((HF.out.2.2.1.setLow (by omega) _).setLow (by omega) _).setLow (by omega) _).setLow (by omega) _).setLow (by omega) _).setLow (by omega) _).low (by omega)
    · exact fun _ => ⟨y1.heap.size, by omega, HF.out.2.2.2.2.1, fun q e => (HF.out.2.2.1.lt q e).1⟩
    · exact (((((HF.out.2.2.2.1.setCell (by dsimp only; omega) _).setCell (by dsimp only; omega) _).setCell (by dsimp only; omega) _).setCell (by dsimp only; omega) _).setCell (by dsimp only; omega) _).setCell (by dsimp only; omega) _

end Go.Proofs.YtlkgopoicpnacaaGreatDoor

namespace Go.Proofs.YtlkgopoicpnacaaGreatDoor
open Go.RowKit
set_option linter.unusedVariables false

/-- The variable holds an error. -/
def ErrN (w : World) : Prop := 1 < w.heap.size ∧ ∃ t v, w.cell? ⟨1, 0, none⟩ = some (.iface t v)

theorem ErrN.below {w W : World} (h : ErrN w) (hb : Below w.heap.size w W) : ErrN W := by
  obtain ⟨h1, t, v, h2⟩ := h
  exact ⟨Nat.lt_of_lt_of_le h1 hb.size, t, v, (hb.cell (p := ⟨1, 0, none⟩) h1).trans h2⟩

/-- A call gave up by a panic. -/
def Pan (e : Ending) : Prop := ∃ t v, e = .panicked [{ v := .iface t v, recovered := false }]

theorem mustFit_yes (w : World) : Calls Tryz.prog 99 #[.bool true] w fun e w' => e = .returned (.tuple #[]) ∧ w' = w := by
  go_enter Tryz.func99, Tryz.ntmps99
  go_wp2_with fail
  go_end0
  exact ⟨rfl, rfl⟩

theorem mustFit_no (w : World) (h : ErrN w) : Calls Tryz.prog 99 #[.bool false] w fun e w' => Pan e ∧ w' = w := by
  obtain ⟨_, t, v, hc⟩ := h
  go_enter Tryz.func99, Tryz.ntmps99
  go_wp2_with fail
  exact ⟨rfl, ⟨t, v, rfl⟩, rfl⟩

/-- What must fit does, or it gives up. -/
theorem mustFit_any (b : Bool) (w : World) (h : ErrN w) : Calls Tryz.prog 99 #[.bool b] w fun e w' => ((b = true ∧ e = .returned (.tuple #[])) ∨ (b = false ∧ Pan e)) ∧ w' = w := by
  cases b with
  | true => exact (mustFit_yes w).mono (fun e w' h => ⟨.inl ⟨rfl, h.1⟩, h.2⟩)
  | false => exact (mustFit_no w h).mono (fun e w' h => ⟨.inr ⟨rfl, h.1⟩, h.2⟩)

/-- The upload that must be there is told, or it gave up. -/
def ThereAns (o : Option Nat) (a : Option Addr) (e : Ending) : Prop := (∃ k g, o = some k ∧ a = some ⟨g, 0, none⟩ ∧ e = .returned (.pointer (some ⟨g, k * 4, none⟩))) ∨ (o = none ∧ Pan e)

set_option maxRecDepth 10000 in
set_option maxHeartbeats 800000 in
theorem implThere_any (fb : Nat) (a : Option Addr) (n c lo : Nat) (id : ByteArray) (l : List UE) (w : World) (hf : BoxN w fb 112 [.slice a n c]) (h : UpRow w lo (.slice a n c) l) (hn : n = l.length) (hl : n ≤ 1099511627776) (he : ErrN w) :
    Calls Tryz.prog 114 #[.pointer (some ⟨fb, 0, none⟩), .string id] w fun e w' => ThereAns (atU (l.map UE.u) id) a e ∧ Below w.heap.size w w' := by
  have HE : Hid (ErrN w) := he
  have HR : Hid (Calls Tryz.prog 112 #[.slice a n c, .string id] w fun e w' => e = .returned (.pointer (reachUO a (atU (l.map UE.u) id))) ∧ Below w.heap.size w w') := implReachU_any a n c lo id l w h hn hl
  have f0 := hf.cell 0 rfl
  cases hk : atU (l.map UE.u) id with
  | none =>
    rw [hk, reachUO_none] at HR
    clear hf h hk hn
    go_enter Tryz.func114, Tryz.ntmps114
    go_wp2_with fail
    refine HR.out.mono ?_
    rintro e w1 ⟨rfl, hb1⟩
    have HB1 : Hid (Below w.heap.size w w1) := hb1
    clear hb1
    go_wp2_with fail
    refine (mustFit_no w1 (HE.out.below HB1.out)).mono ?_
    rintro e w2 ⟨⟨t, v, rfl⟩, rfl⟩
    go_wp2_with fail
    exact ⟨rfl, .inr ⟨rfl, t, v, rfl⟩, HB1.out⟩
  | some k =>
    have hkl : k < (l.map UE.u).length := (atU_is hk).1
    obtain ⟨g, hg⟩ : ∃ g, a = some ⟨g, 0, none⟩ := by
      obtain ⟨g, hg, _⟩ := h.at hn (by simpa using hkl)
      exact ⟨g, hg⟩
    rw [hk, hg] at HR
    clear hf h hk hkl hn
    have HR2 : Hid (Calls Tryz.prog 112 #[.slice (some ⟨g, 0, none⟩) n c, .string id] w fun e w' => e = .returned (.pointer (some ⟨g, k * 4, none⟩)) ∧ Below w.heap.size w w') := HR.out
    subst hg
    clear HR
    go_enter Tryz.func114, Tryz.ntmps114
    go_wp2_with fail
    refine HR2.out.mono ?_
    rintro e w1 ⟨rfl, hb1⟩
    have HB1 : Hid (Below w.heap.size w w1) := hb1
    clear hb1
    go_wp2_with fail
    refine (mustFit_yes w1).mono ?_
    rintro e w2 ⟨rfl, rfl⟩
    go_wp2_with fail
    go_ret
    exact ⟨.inl ⟨k, g, rfl, rfl, rfl⟩, HB1.out⟩

end Go.Proofs.YtlkgopoicpnacaaGreatDoor
