/- The bytes of an upload of a row grow. No statement of the program but its table of types. A region that draws its order: operations that only read and callees that leave all that was there, and behind all of them a few that come one by one: walked once, in the order of the text. No program in it. -/
import Derived.Test.YtogopmngbjkcjatDoorM08
import Derived.Test.YtogopmngbjkcjatDoorM05
import Derived.Test.YtogopmngbjkcjatDoorM13
import Derived.StillTail
namespace Go.Proofs.YtogopmngbjkcjatDoor
open Go.RowKit
set_option linter.unusedVariables false

theorem ueCells_data (l : List UE) (e : UE) (m : List UE) (A : Option Addr) (N C : Nat) (zs : List Int) :
    (ueCells (l ++ e :: m)).set (l.length * 4 + 2) (.slice A N C) = ueCells (l ++ ⟨{ e.u with zs := zs }, A, N, C⟩ :: m) := by
  have hl := ueCells_len l
  rw [ueCells_append, ueCells_append, ueCells_cons, ueCells_cons]
  rw [List.set_append_right _ _ (by omega), hl, show l.length * 4 + 2 - l.length * 4 = 2 by omega]
  rfl

theorem UpRow.grew {W W' : World} {base g n c : Nat} {M D : List UE} {e : UE} (h : UpRow W base (.slice (some ⟨g, 0, none⟩) n c) (M ++ e :: D)) (hn : (M ++ e :: D).length = n) {A : Option Addr} {N C : Nat} {zs : List Int} (ho : Owns W' base A N C zs) (hg : W.grownBy W' (e.a.map (·.block))) (hw : A.map (·.block) = e.a.map (·.block) ∨ ∀ q, A.map (·.block) = some q → W.heap.size ≤ q) :
    UpRow (W'.setCell ⟨g, M.length * 4 + 2, none⟩ (.slice A N C)) base (.slice (some ⟨g, 0, none⟩) n c) (M ++ ⟨{ e.u with zs := zs }, A, N, C⟩ :: D) := by
  have he := h.2.1 e (List.mem_append_right _ (List.mem_cons_self ..))
  have hrow := h.rowApart he g rfl
  have hgl : g < W.heap.size := (h.lts.1 g rfl).2
  have hp := h.2.2
  rw [List.pairwise_append, List.pairwise_cons] at hp
  have hAg : A.map (·.block) ≠ some g := fun q => by
    rcases hw with hw | hw
    · exact hrow (hw ▸ q)
    · have := hw g q; omega
  have hother : ∀ x ∈ M ++ D, Owns (W'.setCell ⟨g, M.length * 4 + 2, none⟩ (.slice A N C)) base x.a x.n x.c x.u.zs ∧ (∀ q, x.a.map (·.block) = some q → A.map (·.block) ≠ some q) := by
    intro x hx
    have hx' : x ∈ M ++ e :: D := by
      rcases List.mem_append.1 hx with hx | hx
      · exact List.mem_append_left _ hx
      · exact List.mem_append_right _ (List.mem_cons_of_mem _ hx)
    have hap : ∀ q, x.a.map (·.block) = some q → e.a.map (·.block) ≠ some q := by
      rcases List.mem_append.1 hx with hx | hx
      · exact hp.2.2 x hx e (List.mem_cons_self ..)
      · intro q hq hq2
        exact hp.2.1.1 x hx q hq2 hq
    have hxo := h.2.1 x hx'
    refine ⟨owns_set (hxo.grown hg (fun q hq hq2 => hap q hq2 hq)) (fun q => h.rowApart hxo g rfl q), fun q hq hq2 => ?_⟩
    rcases hw with hw | hw
    · exact hap q hq (by rw [← hw]; exact hq2)
    · have h1 := hw q hq2
      have h2 := (hxo.lt q hq).2
      omega
  refine ⟨?_, ?_, ?_⟩
  · have h1 : W'.ownsRow base 71 4 (.slice (some ⟨g, 0, none⟩) n c) n (ueCells (M ++ e :: D)) := by
      have h0 := h.1
      rw [hn] at h0
      exact h0.kept hg (.inr (fun q => hrow q.symm))
    have h2 := (h1.stored (M.length * 4 + 2) (.slice A N C)).1
    rw [ueCells_data M e D A N C zs] at h2
    rw [show (M ++ (⟨{ e.u with zs := zs }, A, N, C⟩ : UE) :: D).length = n by rw [← hn]; simp]
    exact h2
  · intro x hx
    rcases List.mem_append.1 hx with hx | hx
    · exact (hother x (List.mem_append_left _ hx)).1
    · rcases List.mem_cons.1 hx with rfl | hx
      · exact owns_set ho hAg
      · exact (hother x (List.mem_append_right _ hx)).1
  · rw [List.pairwise_append, List.pairwise_cons]
    refine ⟨hp.1, ⟨fun y hy q hq hq2 => (hother y (List.mem_append_right _ hy)).2 q hq2 hq, hp.2.1.2⟩, fun x hx y hy => ?_⟩
    rcases List.mem_cons.1 hy with rfl | hy
    · exact (hother x (List.mem_append_left _ hx)).2
    · exact hp.2.2 x hx y (List.mem_cons_of_mem _ hy)

end Go.Proofs.YtogopmngbjkcjatDoor

namespace Go.Proofs.YtogopmngbjkcjatDoor
open Go.RowKit
set_option linter.unusedVariables false

section
variable {P : Program} {ops : Array Oper} {md : Region.Mode} {C : World → Prop}

/-- Each operation from the m-th to the n-th is waited for by a later one of these, or by the n-th. -/
def sinkFrom (md : Region.Mode) (ops : Array Oper) (m n : Nat) : Bool :=
  (List.range n).all fun i => decide (i < m) || (List.range (n + 1)).any fun j => decide (i < j) && Region.waitsFor md ops j i

theorem tail_waitsF {m n : Nat} {listed : Array Bool} (hs : sinkFrom md ops m n = true) (hc : Region.chainB md ops n = true) (hn : n < ops.size) (inv : HeadInv md ops n listed) :
    ∀ (d i : Nat), n - i = d → m ≤ i → i < n → listed.getD i true = false → ∀ t, n ≤ t → t ∉ Region.ready md ops listed := by
  intro d
  induction d using Nat.strongRecOn with
  | _ d ih =>
    intro i hd hmi hi hun t ht hr
    obtain ⟨_, ot, hot, hall⟩ := mem_ready.1 hr
    have htlt : t < ops.size := (Array.getElem?_eq_some_iff.1 hot).1
    by_cases htn : t = n
    · subst htn
      have h1 := List.all_eq_true.1 hs i (List.mem_range.2 hi)
      rw [decide_eq_false (by omega), Bool.false_or] at h1
      obtain ⟨j, hj, hj2⟩ := List.any_eq_true.1 h1
      simp only [Bool.and_eq_true, decide_eq_true_eq] at hj2
      obtain ⟨oj, hoj, e, he, hb, hon⟩ := Region.waitsFor_spec hj2.2
      have hjle : j ≤ t := by have := List.mem_range.1 hj; omega
      by_cases hjt : j = t
      · subst hjt
        have : oj = ot := Option.some.inj (hoj.symm.trans hot)
        subst this
        have h2 := hall e he hb
        rw [hon, getD_both hun] at h2
        cases h2
      · cases hl : listed.getD j false with
        | true =>
          have h2 := inv.closed j oj hoj hl e he hb
          rw [hon, getD_both hun] at h2
          cases h2
        | false =>
          have hjs : j < listed.size := by rw [inv.size]; omega
          exact ih (t - j) (by omega) j rfl (by omega) (by omega) (getD_in hjs hl) t (Nat.le_refl _) hr
    · have h1 := List.all_eq_true.1 hc t (List.mem_range.2 htlt)
      simp only [Bool.or_eq_true, decide_eq_true_eq] at h1
      rcases h1 with h1 | h1
      · omega
      · obtain ⟨o', ho', e, he, hb, hon⟩ := Region.waitsFor_spec h1
        have : o' = ot := Option.some.inj (ho'.symm.trans hot)
        subst this
        have h2 := hall e he hb
        rw [hon, getD_both (inv.tail (t - 1) (by omega) (by omega))] at h2
        cases h2

/-- Whatever order is picked of the operations ahead of the n-th. -/
def wpHeadQ (P : Program) (md : Region.Mode) (ops : Array Oper) (C : World → Prop) (n : Nat) (L : Array Bool → Act → Prop) : Nat → Array Bool → Act → Prop
  | 0, listed, a => L listed a
  | f + 1, listed, a => Region.ready md ops listed ≠ [] ∧ ∀ i ∈ Region.ready md ops listed, i < n ∧ qOp P ops C i (wpHeadQ P md ops C n L f (listed.setIfInBounds i true)) a

theorem wpAny_of_headQ {n g : Nat} {L : Array Bool → Act → Prop} {Q' : Exit → Act → World → Prop} (hL : ∀ listed a w, C w → L listed a → wpAny P md ops Q' g listed a w) :
    ∀ (f : Nat) (listed : Array Bool) (a : Act) (w : World), C w → wpHeadQ P md ops C n L f listed a → wpAny P md ops Q' (f + g) listed a w
  | 0, listed, a, w, hC, h => by rw [Nat.zero_add]; exact hL _ _ _ hC h
  | f + 1, listed, a, w, hC, h => by
    rw [show f + 1 + g = (f + g) + 1 by omega]
    exact ⟨fun h0 => absurd h0 h.1, fun i hi => wpOp_of_qOp hC (fun a' w' hC' h' => wpAny_of_headQ hL f _ a' w' hC' h') (h.2 i hi).2⟩

theorem wpHeadQ_first {m n i : Nat} {oi : Oper} {v : Value} {L : Array Bool → Act → Prop} (hi : ops[i]? = some oi) (hsel : ∀ (j : Nat) (o : Oper) cs b, ops[j]? = some o → o.op ≠ .select cs b)
    (hs : sinkFrom md ops m n = true) (hc : Region.chainB md ops n = true) (hn : n < ops.size) (him : m ≤ i) (hin : i < n)
    (hdone : ∀ listed a, L listed a → ∀ j ∈ Region.ready md ops listed, n ≤ j) :
    ∀ (f : Nat) (listed : Array Bool) (a : Act), HeadInv md ops n listed →
      (∀ j oj, ops[j]? = some oj → j ≠ i → listed.getD j true = false → (∀ e ∈ oj.after, Region.binds md e = true → e.on ≠ i) → oi.apart ops oj = true) →
      i ∈ Region.ready md ops listed → YieldsIn P ops C oi v a →
      wpHeadQ P md ops C n L f (listed.setIfInBounds i true) (a.put oi.dst v) → wpHeadQ P md ops C n L (f + 1) listed a := by
  intro f
  induction f with
  | zero =>
    intro listed a inv _ hr hy H
    have hun := (mem_ready.1 hr).1
    refine ⟨fun h => (by rw [h] at hr; cases hr), fun j hj => ?_⟩
    have hjn : j < n := by
      rcases Nat.lt_or_ge j n with h | h
      · exact h
      · exact absurd hj (tail_waitsF hs hc hn inv _ i rfl him hin hun j h)
    refine ⟨hjn, ?_⟩
    by_cases hji : j = i
    · subst hji; exact hy.qOp hi H
    · have := hdone _ _ H j (ready_mono hj hji)
      omega
  | succ f ih =>
    intro listed a inv hfree hr hy H
    have hun := (mem_ready.1 hr).1
    refine ⟨fun h => (by rw [h] at hr; cases hr), fun j hj => ?_⟩
    have hjn : j < n := by
      rcases Nat.lt_or_ge j n with h | h
      · exact h
      · exact absurd hj (tail_waitsF hs hc hn inv _ i rfl him hin hun j h)
    refine ⟨hjn, ?_⟩
    by_cases hji : j = i
    · subst hji; exact hy.qOp hi H
    · have h1 := (H.2 j (ready_mono hj hji)).2
      obtain ⟨hjun, oj, hoj, hall⟩ := mem_ready.1 hj
      have hnot : ∀ e ∈ oj.after, Region.binds md e = true → e.on ≠ i := fun e he hb heq => by
        have h1 := hall e he hb
        rw [heq, getD_both hun] at h1
        cases h1
      have h2 := qOp_put hoj (hfree j oj hoj hji hjun hnot) (fun cs b => hsel i oi cs b hi) (fun cs b => hsel j oj cs b hoj) hy h1
      have hfree' : ∀ k ok, ops[k]? = some ok → k ≠ i → (listed.setIfInBounds j true).getD k true = false →
          (∀ e ∈ ok.after, Region.binds md e = true → e.on ≠ i) → oi.apart ops ok = true := fun k ok hk hki hun hno => by
        refine hfree k ok hk hki ?_ hno
        by_cases hjk : j = k
        · subst hjk; exact hjun
        · rw [getD_set_ne true hjk] at hun; exact hun
      refine qOp_mono (fun a' h3 => ih (listed.setIfInBounds j true) a' (inv.set hj hjn) hfree' (ready_mono hr (Ne.symm hji)) h3.1 ?_) h2
      rw [Array.setIfInBounds_comm _ _ hji]
      exact h3.2

theorem wpHeadQ_lex {m n g : Nat} {Lq : Act → Prop} (hsel : Region.noSelect ops = true) (hs : sinkFrom md ops m n = true) (hc : Region.chainB md ops n = true) (hn : n < ops.size) :
    ∀ (l : List Oper) (k : Nat) (listed : Array Bool) (a : Act), (∀ j, j < l.length → l[j]? = ops[k + j]?) → m ≤ k → k + l.length = n → HeadInv md ops n listed →
    Region.lexHead md ops g l.length k listed = true → wpQuiet P ops C Lq l a →
    wpHeadQ P md ops C n (fun listed' a' => Region.seqB md ops g n listed' = true ∧ Lq a') l.length listed a
  | [], k, listed, a, _, _, hk, _, hB, h => by
    have : k = n := by simpa using hk
    subst this
    exact ⟨by simpa [Region.lexHead] using hB, h⟩
  | o :: l, k, listed, a, hl, hmk, hk, inv, hB, h => by
    have h0 : ops[k]? = some o := by simpa using (hl 0 (by simp)).symm
    simp only [List.length_cons, Region.lexHead, Bool.and_eq_true] at hB
    obtain ⟨⟨hr, hf⟩, hB'⟩ := hB
    have hkn : k < n := by simp only [List.length_cons] at hk; omega
    have hr' : k ∈ Region.ready md ops listed := by simpa using hr
    have hst : qOp P ops C k (wpQuiet P ops C Lq l) a := by unfold qOp; simp only [h0]; exact h
    obtain ⟨v, hy, hK⟩ := yieldsIn_of_qOp h0 hst
    exact wpHeadQ_first h0 (Region.noSelect_spec hsel) hs hc hn hmk hkn (fun listed' a' hL => seqB_ready hL.1) l.length listed a inv (Region.free_spec h0 hf) hr' hy
      (wpHeadQ_lex hsel hs hc hn l (k + 1) _ _ (fun j hj => by have := hl (j + 1) (by simp; omega); simpa [Nat.add_assoc, Nat.add_comm 1 j] using this) (by omega) (by simp only [List.length_cons] at hk; omega) (inv.set hr' hkn) hB' hK)

/-- The bounds of a region whose first m operations are taken ahead, whose head is quiet, whose tail comes one by one. -/
def pastB (ops : Array Oper) (m n : Nat) : Bool :=
  Region.noSelect ops && decide (n < ops.size) && decide (m ≤ n) && sinkFrom .any ops m n && Region.chainB .any ops n && Region.lexHead .any ops (ops.size - n) (n - m) m ((List.range m).foldl (fun l i => l.setIfInBounds i true) (Array.replicate ops.size false))

/-- The head is quiet in the class, the tail comes one by one in whatever world of the class. -/
theorem wpAny_quiet_tail {Q : Exit → Act → World → Prop} {a : Act} {w : World} {l : List Oper} (m n : Nat) (listed : Array Bool) (hl : (List.range m).foldl (fun l i => l.setIfInBounds i true) (Array.replicate l.toArray.size false) = listed) (hB : pastB l.toArray m n = true) (inv0 : HeadInv .any l.toArray n listed) (hC : C w)
    (h : wpQuiet P l.toArray C (fun a' => ∀ w', C w' → wpList P l.toArray Q (l.drop n) a' w') ((l.take n).drop m) a) : wpAny P .any l.toArray Q (l.length - m) listed a w := by
  simp only [pastB, Bool.and_eq_true, decide_eq_true_eq] at hB
  obtain ⟨⟨⟨⟨⟨hsel, hn⟩, hmn⟩, hs⟩, hc⟩, hlex⟩ := hB
  rw [hl] at hlex
  have hn' : n < l.length := by simpa using hn
  have htl : ((l.take n).drop m).length = n - m := by simp; omega
  have hdl : (l.drop n).length = l.toArray.size - n := by simp
  have H := wpHeadQ_lex (md := .any) (g := l.toArray.size - n) (C := C) hsel hs hc hn ((l.take n).drop m) m listed a (fun j hj => by
    have hj' : m + j < n := by rw [htl] at hj; omega
    rw [List.getElem?_drop, List.getElem?_take_of_lt hj']
    simp) (Nat.le_refl _) (by rw [htl]; omega) inv0 (by rw [htl]; exact hlex) h
  have := wpAny_of_headQ (Q' := Q) (g := l.toArray.size - n) (fun listed a' w' hC' hL => by
    have := wpAny_of_seq (md := .any) (Q' := Q) (l.drop n) n listed a' w' (fun j => by simp [List.getElem?_drop]) (by rw [hdl]; exact hL.1) (hL.2 w' hC')
    rwa [hdl] at this) _ _ _ _ hC H
  rw [htl, show n - m + (l.toArray.size - n) = l.length - m by simp; omega] at this
  exact this

theorem headInv0 (l : List Oper) (n : Nat) : HeadInv .any l.toArray n (Array.replicate l.toArray.size false) :=
  ⟨by simp, fun j oj _ hl => (by rw [getD_replicate_false] at hl; cases hl), fun t _ ht => getD_in (by simpa using ht) (getD_replicate_false _ _)⟩
end

/-- All in the class of worlds in which all that lay in w is as it was; the region's row hidden behind a name. -/
theorem wp_region_past_tail {P : Program} {id : Nat} {Q : Exit → Act → World → Prop} {a : Act} {w : World} {l : List Oper} (n : Nat) (hm : P.follows .mixedOrders = true) (hB : pastB l.toArray 0 n = true)
    (h : ∀ ops : Array Oper, Hid (ops = l.toArray) → wpQuiet P ops (fun w' => ∃ p : Past w, w' = p.world) (fun a' => ∀ w', (∃ p : Past w, w' = p.world) → wpList P ops Q (l.drop n) a' w') (l.take n) a) : (Code.region id l.toArray true).wp P Q a w := by
  refine wp_region_any hm ?_
  have := wpAny_quiet_tail (C := fun w' => ∃ p : Past w, w' = p.world) (Q := Q) 0 n _ rfl hB (headInv0 l n) ⟨⟨w.drew, (Below.refl _ _).drew⟩, rfl⟩ (by rw [List.drop_zero]; exact h _ rfl)
  simpa using this

/-- The same where the first operation only moves a value, whenever it comes; nothing panics. -/
theorem wp_region_past_tail1 {P : Program} {id : Nat} {Q : Exit → Act → World → Prop} {a : Act} {w : World} {o : Oper} {l : List Oper} (n : Nat) (hm : P.follows .mixedOrders = true) (hB : pastB (o :: l).toArray 1 n = true) (hf : Region.free .any (o :: l).toArray (Array.replicate (o :: l).toArray.size false) 0 = true) (hr : (Region.ready .any (o :: l).toArray (Array.replicate (o :: l).toArray.size false)).contains 0 = true) (ha : o.after = #[]) (hg : o.guard = none) (x : Operand) (ho : o.op = .move x)
    (h : ∀ ops : Array Oper, Hid (ops = (o :: l).toArray) → wpQuiet P ops (fun w' => ∃ p : Past w, w' = p.world) (fun a' => ∀ w', (∃ p : Past w, w' = p.world) → wpList P ops (fun e a w => e = .normal ∧ Q .normal a w) ((o :: l).drop n) a' w') (((o :: l).take n).drop 1) (a.put o.dst (a.eval x))) : (Code.region id (o :: l).toArray true).wp P Q a w := by
  have hsel : Region.noSelect (o :: l).toArray = true := by
    simp only [pastB, Bool.and_eq_true] at hB
    exact hB.1.1.1.1.1
  have hn : 1 ≤ n ∧ n < (o :: l).length := by
    simp only [pastB, Bool.and_eq_true, decide_eq_true_eq] at hB
    exact ⟨hB.1.1.1.2, by simpa using hB.1.1.1.1.2⟩
  have hy : Yields P (o :: l).toArray o (a.eval x) a := .inl ⟨by simp [Region.wanted, hg], fun w => by simp [execOp, ho]⟩
  have inv1 : HeadInv .any (o :: l).toArray n ((Array.replicate (o :: l).toArray.size false).setIfInBounds 0 true) := by
    refine ⟨by simp, fun j oj hj hl e he hb => ?_, fun t ht ht' => ?_⟩
    · by_cases hj0 : 0 = j
      · subst hj0
        obtain rfl : o = oj := by simpa using hj
        rw [ha] at he
        simp at he
      · rw [getD_set_ne false hj0, getD_replicate_false] at hl
        cases hl
    · rw [getD_set_ne true (by omega)]
      exact getD_in (by simpa using ht') (getD_replicate_false _ _)
  have H := wpAny_quiet_tail (C := fun w' => ∃ p : Past w, w' = p.world) (Q := fun e a w => e = .normal ∧ Q .normal a w) 1 n _ rfl hB inv1 ⟨⟨w.drew, (Below.refl _ _).drew⟩, rfl⟩ (h _ rfl)
  have H2 : wpAny P .any (o :: l).toArray (fun e a w => e = .normal ∧ Q .normal a w) (o :: l).toArray.size (Array.replicate (o :: l).toArray.size false) a { w with drawn := w.drawn + 1 } :=
    wpAny_take (fuel := l.length) (v := a.eval x) (by simp) hsel hf hr (fun c a w h => by cases h.1) hy (by simpa using H)
  exact Code.wp_mono (fun e a w h => by obtain ⟨rfl, h⟩ := h; exact h) (wp_region_any hm H2)

end Go.Proofs.YtogopmngbjkcjatDoor
