/- A region that draws its order: operations that only read and callees that leave all that was there, and behind all of them a few that come one by one: walked once, in the order of the text. No program in it. What the specification's l14Write does to a store in a variable. What the specification's l14Left answers. What a function of the store answers, in memory. No program in it but its table of types. What the specification's MakeUp answers. Pieces of a list of bytes. No program in it. What the specification's PutUp answers. What the specification's DoneUp answers. -/
import Derived.Test.YtiigdcpjelbdjaaGreatDoorM20
import Derived.StillTail
import Derived.Test.YtiigdcpjelbdjaaGreatDoorM05
import Derived.Test.YtiigdcpjelbdjaaGreatDoorM13
import Derived.Test.YtiigdcpjelbdjaaGreatDoorM17
import Derived.Deep.CutBlock
import Derived.Test.YtiigdcpjelbdjaaGreatDoorM04
import Derived.BigQuiet
import Derived.Test.YtiigdcpjelbdjaaGreatDoorM06
import Derived.Test.YtiigdcpjelbdjaaGreatDoorM11
import Derived.Test.YtiigdcpjelbdjaaGreatDoorM21
import Derived.Test.YtiigdcpjelbdjaaGreatDoorM01
import Derived.Test.YtiigdcpjelbdjaaGreatDoorM07
namespace Go.Proofs.YtiigdcpjelbdjaaGreatDoor
open Go.RowKit
set_option linter.unusedVariables false

section
variable {P : Program} {ops : Array Oper} {md : Region.Mode} {C : World → Prop}

/-- Each operation from the m-th to the n-th is waited for by a later one of these, or by the n-th. -/
def sinkFrom (md : Region.Mode) (ops : Array Oper) (m n : Nat) : Bool :=
  (List.range n).all fun i => decide (i < m) || (List.range (n + 1)).any fun j => decide (i < j) && Region.waitsFor md ops j i

theorem tail_waitsF {m n : Nat} {listed : Array Bool} (hs : sinkFrom md ops m n = true) (hc : Region.chainB md ops n = true) (hn : n < ops.size) (inv : HeadInv md ops n listed) :
    ∀ (d i : Nat), n - i = d → m ≤ i → i < n → listed.getD i true = false → ∀ t, n ≤ t → t ∉ Region.ready md ops listed := by
  intro d
  induction d using Nat.strongRecOn with
  | _ d ih =>
    intro i hd hmi hi hun t ht hr
    obtain ⟨_, ot, hot, hall⟩ := mem_ready.1 hr
    have htlt : t < ops.size := (Array.getElem?_eq_some_iff.1 hot).1
    by_cases htn : t = n
    · subst htn
      have h1 := List.all_eq_true.1 hs i (List.mem_range.2 hi)
      rw [decide_eq_false (by omega), Bool.false_or] at h1
      obtain ⟨j, hj, hj2⟩ := List.any_eq_true.1 h1
      simp only [Bool.and_eq_true, decide_eq_true_eq] at hj2
      obtain ⟨oj, hoj, e, he, hb, hon⟩ := Region.waitsFor_spec hj2.2
      have hjle : j ≤ t := by have := List.mem_range.1 hj; omega
      by_cases hjt : j = t
      · subst hjt
        have : oj = ot := Option.some.inj (hoj.symm.trans hot)
        subst this
        have h2 := hall e he hb
        rw [hon, getD_both hun] at h2
        cases h2
      · cases hl : listed.getD j false with
        | true =>
          have h2 := inv.closed j oj hoj hl e he hb
          rw [hon, getD_both hun] at h2
          cases h2
        | false =>
          have hjs : j < listed.size := by rw [inv.size]; omega
          exact ih (t - j) (by omega) j rfl (by omega) (by omega) (getD_in hjs hl) t (Nat.le_refl _) hr
    · have h1 := List.all_eq_true.1 hc t (List.mem_range.2 htlt)
      simp only [Bool.or_eq_true, decide_eq_true_eq] at h1
      rcases h1 with h1 | h1
      · omega
      · obtain ⟨o', ho', e, he, hb, hon⟩ := Region.waitsFor_spec h1
        have : o' = ot := Option.some.inj (ho'.symm.trans hot)
        subst this
        have h2 := hall e he hb
        rw [hon, getD_both (inv.tail (t - 1) (by omega) (by omega))] at h2
        cases h2

/-- Whatever order is picked of the operations ahead of the n-th. -/
def wpHeadQ (P : Program) (md : Region.Mode) (ops : Array Oper) (C : World → Prop) (n : Nat) (L : Array Bool → Act → Prop) : Nat → Array Bool → Act → Prop
  | 0, listed, a => L listed a
  | f + 1, listed, a => Region.ready md ops listed ≠ [] ∧ ∀ i ∈ Region.ready md ops listed, i < n ∧ qOp P ops C i (wpHeadQ P md ops C n L f (listed.setIfInBounds i true)) a

theorem wpAny_of_headQ {n g : Nat} {L : Array Bool → Act → Prop} {Q' : Exit → Act → World → Prop} (hL : ∀ listed a w, C w → L listed a → wpAny P md ops Q' g listed a w) :
    ∀ (f : Nat) (listed : Array Bool) (a : Act) (w : World), C w → wpHeadQ P md ops C n L f listed a → wpAny P md ops Q' (f + g) listed a w
  | 0, listed, a, w, hC, h => by rw [Nat.zero_add]; exact hL _ _ _ hC h
  | f + 1, listed, a, w, hC, h => by
    rw [show f + 1 + g = (f + g) + 1 by omega]
    exact ⟨fun h0 => absurd h0 h.1, fun i hi => wpOp_of_qOp hC (fun a' w' hC' h' => wpAny_of_headQ hL f _ a' w' hC' h') (h.2 i hi).2⟩

theorem wpHeadQ_first {m n i : Nat} {oi : Oper} {v : Value} {L : Array Bool → Act → Prop} (hi : ops[i]? = some oi) (hsel : ∀ (j : Nat) (o : Oper) cs b, ops[j]? = some o → o.op ≠ .select cs b)
    (hs : sinkFrom md ops m n = true) (hc : Region.chainB md ops n = true) (hn : n < ops.size) (him : m ≤ i) (hin : i < n)
    (hdone : ∀ listed a, L listed a → ∀ j ∈ Region.ready md ops listed, n ≤ j) :
    ∀ (f : Nat) (listed : Array Bool) (a : Act), HeadInv md ops n listed →
      (∀ j oj, ops[j]? = some oj → j ≠ i → listed.getD j true = false → (∀ e ∈ oj.after, Region.binds md e = true → e.on ≠ i) → oi.apart ops oj = true) →
      i ∈ Region.ready md ops listed → YieldsIn P ops C oi v a →
      wpHeadQ P md ops C n L f (listed.setIfInBounds i true) (a.put oi.dst v) → wpHeadQ P md ops C n L (f + 1) listed a := by
  intro f
  induction f with
  | zero =>
    intro listed a inv _ hr hy H
    have hun := (mem_ready.1 hr).1
    refine ⟨fun h => (by rw [h] at hr; cases hr), fun j hj => ?_⟩
    have hjn : j < n := by
      rcases Nat.lt_or_ge j n with h | h
      · exact h
      · exact absurd hj (tail_waitsF hs hc hn inv _ i rfl him hin hun j h)
    refine ⟨hjn, ?_⟩
    by_cases hji : j = i
    · subst hji; exact hy.qOp hi H
    · have := hdone _ _ H j (ready_mono hj hji)
      omega
  | succ f ih =>
    intro listed a inv hfree hr hy H
    have hun := (mem_ready.1 hr).1
    refine ⟨fun h => (by rw [h] at hr; cases hr), fun j hj => ?_⟩
    have hjn : j < n := by
      rcases Nat.lt_or_ge j n with h | h
      · exact h
      · exact absurd hj (tail_waitsF hs hc hn inv _ i rfl him hin hun j h)
    refine ⟨hjn, ?_⟩
    by_cases hji : j = i
    · subst hji; exact hy.qOp hi H
    · have h1 := (H.2 j (ready_mono hj hji)).2
      obtain ⟨hjun, oj, hoj, hall⟩ := mem_ready.1 hj
      have hnot : ∀ e ∈ oj.after, Region.binds md e = true → e.on ≠ i := fun e he hb heq => by
        have h1 := hall e he hb
        rw [heq, getD_both hun] at h1
        cases h1
      have h2 := qOp_put hoj (hfree j oj hoj hji hjun hnot) (fun cs b => hsel i oi cs b hi) (fun cs b => hsel j oj cs b hoj) hy h1
      have hfree' : ∀ k ok, ops[k]? = some ok → k ≠ i → (listed.setIfInBounds j true).getD k true = false →
          (∀ e ∈ ok.after, Region.binds md e = true → e.on ≠ i) → oi.apart ops ok = true := fun k ok hk hki hun hno => by
        refine hfree k ok hk hki ?_ hno
        by_cases hjk : j = k
        · subst hjk; exact hjun
        · rw [getD_set_ne true hjk] at hun; exact hun
      refine qOp_mono (fun a' h3 => ih (listed.setIfInBounds j true) a' (inv.set hj hjn) hfree' (ready_mono hr (Ne.symm hji)) h3.1 ?_) h2
      rw [Array.setIfInBounds_comm _ _ hji]
      exact h3.2

theorem wpHeadQ_lex {m n g : Nat} {Lq : Act → Prop} (hsel : Region.noSelect ops = true) (hs : sinkFrom md ops m n = true) (hc : Region.chainB md ops n = true) (hn : n < ops.size) :
    ∀ (l : List Oper) (k : Nat) (listed : Array Bool) (a : Act), (∀ j, j < l.length → l[j]? = ops[k + j]?) → m ≤ k → k + l.length = n → HeadInv md ops n listed →
    Region.lexHead md ops g l.length k listed = true → wpQuiet P ops C Lq l a →
    wpHeadQ P md ops C n (fun listed' a' => Region.seqB md ops g n listed' = true ∧ Lq a') l.length listed a
  | [], k, listed, a, _, _, hk, _, hB, h => by
    have : k = n := by simpa using hk
    subst this
    exact ⟨by simpa [Region.lexHead] using hB, h⟩
  | o :: l, k, listed, a, hl, hmk, hk, inv, hB, h => by
    have h0 : ops[k]? = some o := by simpa using (hl 0 (by simp)).symm
    simp only [List.length_cons, Region.lexHead, Bool.and_eq_true] at hB
    obtain ⟨⟨hr, hf⟩, hB'⟩ := hB
    have hkn : k < n := by simp only [List.length_cons] at hk; omega
    have hr' : k ∈ Region.ready md ops listed := by simpa using hr
    have hst : qOp P ops C k (wpQuiet P ops C Lq l) a := by unfold qOp; simp only [h0]; exact h
    obtain ⟨v, hy, hK⟩ := yieldsIn_of_qOp h0 hst
    exact wpHeadQ_first h0 (Region.noSelect_spec hsel) hs hc hn hmk hkn (fun listed' a' hL => seqB_ready hL.1) l.length listed a inv (Region.free_spec h0 hf) hr' hy
      (wpHeadQ_lex hsel hs hc hn l (k + 1) _ _ (fun j hj => by have := hl (j + 1) (by simp; omega); simpa [Nat.add_assoc, Nat.add_comm 1 j] using this) (by omega) (by simp only [List.length_cons] at hk; omega) (inv.set hr' hkn) hB' hK)

/-- The bounds of a region whose first m operations are taken ahead, whose head is quiet, whose tail comes one by one. -/
def pastB (ops : Array Oper) (m n : Nat) : Bool :=
  Region.noSelect ops && decide (n < ops.size) && decide (m ≤ n) && sinkFrom .any ops m n && Region.chainB .any ops n && Region.lexHead .any ops (ops.size - n) (n - m) m ((List.range m).foldl (fun l i => l.setIfInBounds i true) (Array.replicate ops.size false))

/-- The head is quiet in the class, the tail comes one by one in whatever world of the class. -/
theorem wpAny_quiet_tail {Q : Exit → Act → World → Prop} {a : Act} {w : World} {l : List Oper} (m n : Nat) (listed : Array Bool) (hl : (List.range m).foldl (fun l i => l.setIfInBounds i true) (Array.replicate l.toArray.size false) = listed) (hB : pastB l.toArray m n = true) (inv0 : HeadInv .any l.toArray n listed) (hC : C w)
    (h : wpQuiet P l.toArray C (fun a' => ∀ w', C w' → wpList P l.toArray Q (l.drop n) a' w') ((l.take n).drop m) a) : wpAny P .any l.toArray Q (l.length - m) listed a w := by
  simp only [pastB, Bool.and_eq_true, decide_eq_true_eq] at hB
  obtain ⟨⟨⟨⟨⟨hsel, hn⟩, hmn⟩, hs⟩, hc⟩, hlex⟩ := hB
  rw [hl] at hlex
  have hn' : n < l.length := by simpa using hn
  have htl : ((l.take n).drop m).length = n - m := by simp; omega
  have hdl : (l.drop n).length = l.toArray.size - n := by simp
  have H := wpHeadQ_lex (md := .any) (g := l.toArray.size - n) (C := C) hsel hs hc hn ((l.take n).drop m) m listed a (fun j hj => by
    have hj' : m + j < n := by rw [htl] at hj; omega
    rw [List.getElem?_drop, List.getElem?_take_of_lt hj']
    simp) (Nat.le_refl _) (by rw [htl]; omega) inv0 (by rw [htl]; exact hlex) h
  have := wpAny_of_headQ (Q' := Q) (g := l.toArray.size - n) (fun listed a' w' hC' hL => by
    have := wpAny_of_seq (md := .any) (Q' := Q) (l.drop n) n listed a' w' (fun j => by simp [List.getElem?_drop]) (by rw [hdl]; exact hL.1) (hL.2 w' hC')
    rwa [hdl] at this) _ _ _ _ hC H
  rw [htl, show n - m + (l.toArray.size - n) = l.length - m by simp; omega] at this
  exact this

theorem headInv0 (l : List Oper) (n : Nat) : HeadInv .any l.toArray n (Array.replicate l.toArray.size false) :=
  ⟨by simp, fun j oj _ hl => (by rw [getD_replicate_false] at hl; cases hl), fun t _ ht => getD_in (by simpa using ht) (getD_replicate_false _ _)⟩
end

/-- All in the class of worlds in which all that lay in w is as it was; the region's row hidden behind a name. -/
theorem wp_region_past_tail {P : Program} {id : Nat} {Q : Exit → Act → World → Prop} {a : Act} {w : World} {l : List Oper} (n : Nat) (hm : P.follows .mixedOrders = true) (hB : pastB l.toArray 0 n = true)
    (h : ∀ ops : Array Oper, Hid (ops = l.toArray) → wpQuiet P ops (fun w' => ∃ p : Past w, w' = p.world) (fun a' => ∀ w', (∃ p : Past w, w' = p.world) → wpList P ops Q (l.drop n) a' w') (l.take n) a) : (Code.region id l.toArray true).wp P Q a w := by
  refine wp_region_any hm ?_
  have := wpAny_quiet_tail (C := fun w' => ∃ p : Past w, w' = p.world) (Q := Q) 0 n _ rfl hB (headInv0 l n) ⟨⟨w.drew, (Below.refl _ _).drew⟩, rfl⟩ (by rw [List.drop_zero]; exact h _ rfl)
  simpa using this

/-- The same where the first operation only moves a value, whenever it comes; nothing panics. -/
theorem wp_region_past_tail1 {P : Program} {id : Nat} {Q : Exit → Act → World → Prop} {a : Act} {w : World} {o : Oper} {l : List Oper} (n : Nat) (hm : P.follows .mixedOrders = true) (hB : pastB (o :: l).toArray 1 n = true) (hf : Region.free .any (o :: l).toArray (Array.replicate (o :: l).toArray.size false) 0 = true) (hr : (Region.ready .any (o :: l).toArray (Array.replicate (o :: l).toArray.size false)).contains 0 = true) (ha : o.after = #[]) (hg : o.guard = none) (x : Operand) (ho : o.op = .move x)
    (h : ∀ ops : Array Oper, Hid (ops = (o :: l).toArray) → wpQuiet P ops (fun w' => ∃ p : Past w, w' = p.world) (fun a' => ∀ w', (∃ p : Past w, w' = p.world) → wpList P ops (fun e a w => e = .normal ∧ Q .normal a w) ((o :: l).drop n) a' w') (((o :: l).take n).drop 1) (a.put o.dst (a.eval x))) : (Code.region id (o :: l).toArray true).wp P Q a w := by
  have hsel : Region.noSelect (o :: l).toArray = true := by
    simp only [pastB, Bool.and_eq_true] at hB
    exact hB.1.1.1.1.1
  have hn : 1 ≤ n ∧ n < (o :: l).length := by
    simp only [pastB, Bool.and_eq_true, decide_eq_true_eq] at hB
    exact ⟨hB.1.1.1.2, by simpa using hB.1.1.1.1.2⟩
  have hy : Yields P (o :: l).toArray o (a.eval x) a := .inl ⟨by simp [Region.wanted, hg], fun w => by simp [execOp, ho]⟩
  have inv1 : HeadInv .any (o :: l).toArray n ((Array.replicate (o :: l).toArray.size false).setIfInBounds 0 true) := by
    refine ⟨by simp, fun j oj hj hl e he hb => ?_, fun t ht ht' => ?_⟩
    · by_cases hj0 : 0 = j
      · subst hj0
        obtain rfl : o = oj := by simpa using hj
        rw [ha] at he
        simp at he
      · rw [getD_set_ne false hj0, getD_replicate_false] at hl
        cases hl
    · rw [getD_set_ne true (by omega)]
      exact getD_in (by simpa using ht') (getD_replicate_false _ _)
  have H := wpAny_quiet_tail (C := fun w' => ∃ p : Past w, w' = p.world) (Q := fun e a w => e = .normal ∧ Q .normal a w) 1 n _ rfl hB inv1 ⟨⟨w.drew, (Below.refl _ _).drew⟩, rfl⟩ (h _ rfl)
  have H2 : wpAny P .any (o :: l).toArray (fun e a w => e = .normal ∧ Q .normal a w) (o :: l).toArray.size (Array.replicate (o :: l).toArray.size false) a { w with drawn := w.drawn + 1 } :=
    wpAny_take (fuel := l.length) (v := a.eval x) (by simp) hsel hf hr (fun c a w h => by cases h.1) hy (by simpa using H)
  exact Code.wp_mono (fun e a w h => by obtain ⟨rfl, h⟩ := h; exact h) (wp_region_any hm H2)

end Go.Proofs.YtiigdcpjelbdjaaGreatDoor

namespace Go.Proofs.YtiigdcpjelbdjaaGreatDoor
open Go.RowKit
set_option linter.unusedVariables false

set_option maxRecDepth 10000 in
set_option maxHeartbeats 3200000 in
theorem specWrite_any (lo b : Nat) (a : Option Addr) (ca : Nat) (X : List ByteArray) (a' : Option Addr) (n' ca' : Nat) (Y : List ByteArray) (E M : Nat) (ua : Option Addr) (un uc : Nat) (l : List UE) (e0 q0 : Int) (k : Nat) (id : ByteArray) (rn : Nat) (A : Option Addr) (d C : Nat) (zs : List Int) (us' : List U) (w : World)
    (hq : BoxN w b 29 [.slice a X.length ca, .slice a' n' ca', .int .i64 (E : Int), .int .i64 (M : Int), .slice ua un uc]) (hst : StoAt w lo a X.length ca X a' n' ca' Y ua un uc l) (hlb : lo ≤ b) (ba : Nat) (hsg : Owns w ba A d C zs) (hM : M < X.length) (hXl : X.length ≤ 2097152) (hul : un ≤ 100000) (hz : ∀ e ∈ l, e.n ≤ 1099511627776)
    (hi : id.size ≤ 255) (hd : d ≤ 255) (hE : E ≤ 1000000) (hk : k ≤ 4) (hrn : rn ≤ 1000000000) (ho : oneU (l.map UE.u) ⟨E, M, k, id, rn, zs⟩ = some us') :
    Calls Tryz.prog 89 #[.pointer (some ⟨b, 0, none⟩), .agg #[.int .i64 e0, .int .i64 q0, .int .i64 (k : Int), .string id, .int .i64 (rn : Int), .slice A d C]] w fun e w' =>
      e = .returned (.tuple #[]) ∧ (∃ ua' un' uc' l', BoxN w' b 29 [.slice a X.length ca, .slice a' n' ca', .int .i64 (E : Int), .int .i64 ((M : Int) + 1), .slice ua' un' uc'] ∧ StoAt w' lo a X.length ca (X.set M (txU (sumB (recB E M k id rn zs)))) a' n' ca' Y ua' un' uc' l' ∧ l'.map UE.u = us') ∧ Below lo w w' := by
  have hlw : lo ≤ w.heap.size := Nat.le_of_lt (Nat.lt_of_le_of_lt hlb hq.lt)
  have hbw : b < w.heap.size := hq.lt
  have hne : b ≠ w.heap.size := by omega
  obtain ⟨g, rfl⟩ := texts_at hst.now (by omega)
  obtain ⟨w0, hw0⟩ : ∃ w0, w.alloc (.cells #[.int .i64 e0, .int .i64 q0, .int .i64 (k : Int), .string id, .int .i64 (rn : Int), .slice A d C] 54) = w0 := ⟨_, rfl⟩
  have HE0 : Hid (w.alloc (.cells #[.int .i64 e0, .int .i64 q0, .int .i64 (k : Int), .string id, .int .i64 (rn : Int), .slice A d C] 54) = w0) := hw0
  have hb0 : Below w.heap.size w w0 := by rw [← hw0]; exact (Below.refl _ _).alloc (Nat.le_refl _) _
  have hp0 : BoxN w0 w.heap.size 54 [.int .i64 e0, .int .i64 q0, .int .i64 (k : Int), .string id, .int .i64 (rn : Int), .slice A d C] := by rw [← hw0]; exact BoxN.new _ _ _
  have hq0 := hq.stays hb0
  have hs0 := hst.stays hb0
  clear hw0
  obtain ⟨w2, hw2⟩ : ∃ w2, (w0.setCell ⟨w.heap.size, 0, none⟩ (.int .i64 (E : Int))).setCell ⟨w.heap.size, 1, none⟩ (.int .i64 (M : Int)) = w2 := ⟨_, rfl⟩
  have HE2 : Hid ((w0.setCell ⟨w.heap.size, 0, none⟩ (.int .i64 (E : Int))).setCell ⟨w.heap.size, 1, none⟩ (.int .i64 (M : Int)) = w2) := hw2
  have HP2 : Hid (BoxN w2 w.heap.size 54 [.int .i64 (E : Int), .int .i64 (M : Int), .int .i64 (k : Int), .string id, .int .i64 (rn : Int), .slice A d C]) := by show BoxN _ _ _ _; rw [← hw2]; exact (hp0.set 0 _).set 1 _
  have HQ2 : Hid (BoxN w2 b 29 [.slice (some ⟨g, 0, none⟩) X.length ca, .slice a' n' ca', .int .i64 (E : Int), .int .i64 (M : Int), .slice ua un uc]) := by show BoxN _ _ _ _; rw [← hw2]; exact (hq0.other hne _).other hne _
  have HS2 : Hid (StoAt w2 lo (some ⟨g, 0, none⟩) X.length ca X a' n' ca' Y ua un uc l) := by
    show StoAt _ _ _ _ _ _ _ _ _ _ _ _ _ _
    rw [← hw2]
    exact (hs0.setBox (i := 0) hp0 _).setBox (i := 1) (hp0.set 0 _) _
  have HB2 : Hid (Below w.heap.size w w2) := by show Below _ _ _; rw [← hw2]; exact (hb0.setCell (Nat.le_refl _) _).setCell (Nat.le_refl _) _
  have HG2 : Hid (Owns w2 ba A d C zs) := hsg.below HB2.out
  have c2 := hq0.cell 2 rfl
  have c3 := (hq0.other (b' := w.heap.size) (k := 0) hne (.int .i64 (E : Int))).cell 3 rfl
  have p0 := hp0.cell 0 rfl
  have p1 := (hp0.set 0 (.int .i64 (E : Int))).cell 1 rfl
  have z0 := hp0.frozen 0
  have z1 := (hp0.set 0 (.int .i64 (E : Int))).frozen 1
  have HL : Hid (un = l.length ∧ (∀ e ∈ l, e.n ≤ 1099511627776) ∧ oneU (l.map UE.u) ⟨E, M, k, id, rn, zs⟩ = some us') := ⟨hst.len, hz, ho⟩
  clear hq hst hsg hb0 hp0 hq0 hs0 hz ho hw2
  go_enter Tryz.func89, Tryz.ntmps89
  go_upto_region 1 with fail
  rw [HE0.out]
  clear HE0
  go_upto_region 3 with fail
  rw [HE2.out]
  clear HE2 c2 c3 p0 p1 z0 z1
  have hbw2 : b < w2.heap.size := HQ2.out.lt
  have hpw2 : w.heap.size < w2.heap.size := HP2.out.lt
  have HT : Hid (∀ P : Past w2, Calls Tryz.prog 105 #[.agg #[.int .i64 (E : Int), .int .i64 (M : Int), .int .i64 (k : Int), .string id, .int .i64 (rn : Int), .slice A d C]] P.world fun e w' => e = .returned (.string (txU (sumB (recB E M k id rn zs)))) ∧ Below P.world.heap.size P.world w') := fun P => specPut13_any E M k id rn A d C zs P.world (HG2.out.below P.below).seg hi hd (by omega) (by omega) (by omega) hrn
  obtain ⟨tx, htx⟩ : ∃ tx, txU (sumB (recB E M k id rn zs)) = tx := ⟨_, rfl⟩
  have HTx : Hid (txU (sumB (recB E M k id rn zs)) = tx) := htx
  rw [htx] at HT
  have htxs : tx.size ≤ maxLen := by
    rw [← htx, txU_size, sumB, List.length_append, pbl_len, recB_len, HG2.out.seg.1]
    unfold maxLen
    omega
  clear htx
  have y0 : ∀ P : Past w2, P.world.cell? ⟨b, 0, none⟩ = some (.slice (some ⟨g, 0, none⟩) X.length ca) := fun P => P.cell hbw2 (HQ2.out.cell 0 rfl)
  have y3 : ∀ P : Past w2, P.world.cell? ⟨b, 3, none⟩ = some (.int .i64 (M : Int)) := fun P => P.cell hbw2 (HQ2.out.cell 3 rfl)
  have r0 : ∀ P : Past w2, P.world.cell? ⟨w.heap.size, 0, none⟩ = some (.int .i64 (E : Int)) := fun P => P.cell hpw2 (HP2.out.cell 0 rfl)
  have r1 : ∀ P : Past w2, P.world.cell? ⟨w.heap.size, 1, none⟩ = some (.int .i64 (M : Int)) := fun P => P.cell hpw2 (HP2.out.cell 1 rfl)
  have r2 : ∀ P : Past w2, P.world.cell? ⟨w.heap.size, 2, none⟩ = some (.int .i64 (k : Int)) := fun P => P.cell hpw2 (HP2.out.cell 2 rfl)
  have r3 : ∀ P : Past w2, P.world.cell? ⟨w.heap.size, 3, none⟩ = some (.string id) := fun P => P.cell hpw2 (HP2.out.cell 3 rfl)
  have r4 : ∀ P : Past w2, P.world.cell? ⟨w.heap.size, 4, none⟩ = some (.int .i64 (rn : Int)) := fun P => P.cell hpw2 (HP2.out.cell 4 rfl)
  have r5 : ∀ P : Past w2, P.world.cell? ⟨w.heap.size, 5, none⟩ = some (.slice A d C) := fun P => P.cell hpw2 (HP2.out.cell 5 rfl)
  have hps := past_some w2
  refine wp_region_past_tail 11 (by kernel_rfl) (by kernel_rfl) (fun ops HO => ?_)
  simp only [List.take_succ_cons, List.take_zero, List.drop_succ_cons, List.drop_zero]
  iterate 11 (quiet_step ((first | (go_at_call 105; with_reducible exact calls_past (HT.out _)) | fail)))
  refine wpQuiet_nil ?_
  rintro _ ⟨z, rfl⟩
  have HB3 : Hid (Below w2.heap.size w2 z.world) := z.below
  obtain ⟨w3, hw3⟩ : ∃ w3, z.world = w3 := ⟨_, rfl⟩
  rw [hw3] at HB3 ⊢
  clear hw3 z hps y0 y3 r0 r1 r2 r3 r4 r5 HT
  have HS3 : Hid (StoAt w3 lo (some ⟨g, 0, none⟩) X.length ca X a' n' ca' Y ua un uc l) := HS2.out.stays HB3.out
  have HQ3 : Hid (BoxN w3 b 29 [.slice (some ⟨g, 0, none⟩) X.length ca, .slice a' n' ca', .int .i64 (E : Int), .int .i64 (M : Int), .slice ua un uc]) := HQ2.out.stays HB3.out
  have HP3 : Hid (BoxN w3 w.heap.size 54 [.int .i64 (E : Int), .int .i64 (M : Int), .int .i64 (k : Int), .string id, .int .i64 (rn : Int), .slice A d C]) := HP2.out.stays HB3.out
  have HG3 : Hid (Owns w3 ba A d C zs) := HG2.out.below HB3.out
  have HW3 : Hid (Below lo w w3) := (HB2.out.mono hlw).trans (HB3.out.mono (Nat.le_trans hlw HB2.out.size))
  have hgb : b ≠ g := fun e => HQ3.out.noRow HS3.out.now.1 (by decide) (by rw [e]; rfl)
  have hgp : w.heap.size ≠ g := fun e => HP3.out.noRow HS3.out.now.1 (by decide) (by rw [e]; rfl)
  have hglo : lo ≤ g := (HS3.out.now.lt g rfl).1
  obtain ⟨x3, _, g3, g4⟩ := texts_cell HS3.out.now hM
  have hMi : (M : Int) < (X.length : Int) := by omega
  have hM0 : (0 : Int) ≤ (M : Int) := by omega
  obtain ⟨w4, hw4⟩ : ∃ w4, w3.setCell ⟨g, M, none⟩ (.string tx) = w4 := ⟨_, rfl⟩
  have HE4 : Hid (w3.setCell ⟨g, M, none⟩ (.string tx) = w4) := hw4
  have HS4 : Hid (StoAt w4 lo (some ⟨g, 0, none⟩) X.length ca (X.set M tx) a' n' ca' Y ua un uc l) := by show StoAt _ _ _ _ _ _ _ _ _ _ _ _ _ _; rw [← hw4]; exact HS3.out.putNow M tx htxs
  have HQ4 : Hid (BoxN w4 b 29 [.slice (some ⟨g, 0, none⟩) X.length ca, .slice a' n' ca', .int .i64 (E : Int), .int .i64 (M : Int), .slice ua un uc]) := by show BoxN _ _ _ _; rw [← hw4]; exact HQ3.out.other hgb _
  have HP4 : Hid (BoxN w4 w.heap.size 54 [.int .i64 (E : Int), .int .i64 (M : Int), .int .i64 (k : Int), .string id, .int .i64 (rn : Int), .slice A d C]) := by show BoxN _ _ _ _; rw [← hw4]; exact HP3.out.other hgp _
  have HG4 : Hid (Owns w4 ba A d C zs) := by
    show Owns _ _ _ _ _ _
    rw [← hw4]
    exact owns_set HG3.out (fun e => rows_apart HG3.out.1 HS3.out.now.1 (by decide) g (by rw [ownBlock_sU]; exact e) rfl)
  have HW4 : Hid (Below lo w w4) := by show Below _ _ _; rw [← hw4]; exact HW3.out.setCell hglo _
  clear hw4 HS2 HQ2 HP2 HG2 HB2 HB3 HS3 HQ3 HP3 HG3 HW3
  go_upto_region 4 with fail
  rw [HE4.out]
  clear HE4 g3 g4
  have c3 := HQ4.out.cell 3 rfl
  have f3 := HQ4.out.frozen 3
  have hM1 : (M : Int) + 1 < 9223372036854775808 := by omega
  obtain ⟨w5, hw5⟩ : ∃ w5, w4.setCell ⟨b, 3, none⟩ (.int .i64 ((M : Int) + 1)) = w5 := ⟨_, rfl⟩
  have HE5 : Hid (w4.setCell ⟨b, 3, none⟩ (.int .i64 ((M : Int) + 1)) = w5) := hw5
  have HS5 : Hid (StoAt w5 lo (some ⟨g, 0, none⟩) X.length ca (X.set M tx) a' n' ca' Y ua un uc l) := by show StoAt _ _ _ _ _ _ _ _ _ _ _ _ _ _; rw [← hw5]; exact HS4.out.setBox HQ4.out _
  have HQ5 : Hid (BoxN w5 b 29 [.slice (some ⟨g, 0, none⟩) X.length ca, .slice a' n' ca', .int .i64 (E : Int), .int .i64 ((M : Int) + 1), .slice ua un uc]) := by show BoxN _ _ _ _; rw [← hw5]; exact HQ4.out.set 3 _
  have HP5 : Hid (BoxN w5 w.heap.size 54 [.int .i64 (E : Int), .int .i64 (M : Int), .int .i64 (k : Int), .string id, .int .i64 (rn : Int), .slice A d C]) := by show BoxN _ _ _ _; rw [← hw5]; exact HP4.out.other (fun e => hne e.symm) _
  have HG5 : Hid (Owns w5 ba A d C zs) := by
    show Owns _ _ _ _ _ _
    rw [← hw5]
    exact owns_set HG4.out (fun e => HQ4.out.noRow HG4.out.1 (by decide) (by rw [ownBlock_sU]; exact e))
  have HW5 : Hid (Below lo w w5) := by show Below _ _ _; rw [← hw5]; exact HW4.out.setCell hlb _
  clear hw5 HS4 HQ4 HP4 HG4 HW4
  go_upto_region 5 with fail
  rw [HE5.out]
  clear HE5 c3 f3
  obtain ⟨p0, p1, p2, p3, p4, p5⟩ := (show _ ∧ _ ∧ _ ∧ _ ∧ _ ∧ _ from ⟨HP5.out.cell 0 rfl, HP5.out.cell 1 rfl, HP5.out.cell 2 rfl, HP5.out.cell 3 rfl, HP5.out.cell 4 rfl, HP5.out.cell 5 rfl⟩)
  have q4 := HQ5.out.cell 4 rfl
  have HBd : Hid (Below w5.heap.size w5 w5.drew) := (Below.refl _ _).drew
  have HC5 : Hid (Calls Tryz.prog 106 #[.slice ua un uc, .agg #[.int .i64 (E : Int), .int .i64 (M : Int), .int .i64 (k : Int), .string id, .int .i64 (rn : Int), .slice A d C]] w5.drew fun e y => ∃ va vc l', e = .returned (.tuple #[.slice va l'.length vc, .bool true]) ∧ UpRow y w5.heap.size (.slice va l'.length vc) l' ∧ l'.map UE.u = us' ∧ Below w5.heap.size w5 y) := by
    refine (specOne_any ua un uc lo l ⟨E, M, k, id, rn, zs⟩ A d C w5.drew (HS5.out.stays HBd.out).ups HL.out.1 hul HL.out.2.1 (HG5.out.below HBd.out).seg (by omega)).mono ?_
    rintro _ y ⟨⟨v, rfl, hv⟩, hb⟩
    rw [HL.out.2.2] at hv
    obtain ⟨x, l', rfl, hu, hm⟩ := hv
    obtain ⟨va, vc, rfl⟩ := hu.shape
    exact ⟨va, vc, l', rfl, hu, hm, HBd.out.trans (hb.mono HBd.out.size)⟩
  clear HBd
  go_region_with (first
    | (go_at_call 106; refine HC5.out.mono ?_; rintro _ y ⟨va, vc, l', rfl, hu6, hm6, hb6⟩
       have hq6 := HQ5.out.stays hb6
       have q4y := hq6.cell 4 rfl
       have f4y := hq6.frozen 4)
    | fail)
  all_goals
    have HF : Hid (BoxN (y.setCell ⟨b, 4, none⟩ (.slice va l'.length vc)) b 29 [.slice (some ⟨g, 0, none⟩) X.length ca, .slice a' n' ca', .int .i64 (E : Int), .int .i64 ((M : Int) + 1), .slice va l'.length vc] ∧ StoAt (y.setCell ⟨b, 4, none⟩ (.slice va l'.length vc)) lo (some ⟨g, 0, none⟩) X.length ca (X.set M tx) a' n' ca' Y va l'.length vc l' ∧ l'.map UE.u = us' ∧ Below lo w (y.setCell ⟨b, 4, none⟩ (.slice va l'.length vc))) := by
      have hlo5 : lo ≤ w5.heap.size := Nat.le_trans hlw HW5.out.size
      refine ⟨hq6.set 4 _, ?_, hm6, (HW5.out.trans (hb6.mono hlo5)).setCell hlb _⟩
      exact ((HS5.out.stays hb6).withUps (hu6.low hlo5) rfl).setBox hq6 _
    clear hq6 q4y f4y hu6 hm6 hb6 p0 p1 p2 p3 p4 p5 q4 HC5 HS5 HQ5 HP5 HG5 HW5
    go_wp2_with fail
    go_end0
    exact ⟨rfl, ⟨va, l'.length, vc, l', HF.out.1, by rw [HTx.out]; exact HF.out.2.1, HF.out.2.2.1⟩, HF.out.2.2.2⟩

end Go.Proofs.YtiigdcpjelbdjaaGreatDoor

namespace Go.Proofs.YtiigdcpjelbdjaaGreatDoor
open Go.RowKit
set_option linter.unusedVariables false

set_option maxRecDepth 10000 in
set_option maxHeartbeats 800000 in
theorem specLeft_any (a : Option Addr) (n ca : Nat) (a' : Option Addr) (n' ca' : Nat) (ep nx : Int) (ua : Option Addr) (un uc : Nat) (w : World) (hn : n ≤ 1099511627776) (hx : 0 ≤ nx ∧ nx ≤ 1099511627776) :
    Calls Tryz.prog 88 #[.agg #[.slice a n ca, .slice a' n' ca', .int .i64 ep, .int .i64 nx, .slice ua un uc]] w fun e w' => e = .returned (.int .i64 ((n : Int) - nx)) ∧ Below w.heap.size w w' := by
  obtain ⟨w0, hw0⟩ : ∃ w0, w.alloc (.cells #[.slice a n ca, .slice a' n' ca', .int .i64 ep, .int .i64 nx, .slice ua un uc] 29) = w0 := ⟨_, rfl⟩
  have HE : Hid (w.alloc (.cells #[.slice a n ca, .slice a' n' ca', .int .i64 ep, .int .i64 nx, .slice ua un uc] 29) = w0) := hw0
  have q : BoxN w0 w.heap.size 29 [.slice a n ca, .slice a' n' ca', .int .i64 ep, .int .i64 nx, .slice ua un uc] := by rw [← hw0]; exact BoxN.new _ _ _
  have HB : Hid (Below w.heap.size w w0) := by show Below _ _ _; rw [← hw0]; exact (Below.refl _ _).alloc (Nat.le_refl _) _
  have c0 := q.cell 0 rfl
  have c3 := q.cell 3 rfl
  obtain ⟨hx0, hx1⟩ := hx
  have hni : (n : Int) ≤ 1099511627776 := by omega
  clear hw0 q
  go_enter Tryz.func88, Tryz.ntmps88
  go_upto_region 1 with fail
  rw [HE.out]
  clear HE
  go_wp2_with fail
  first
    | (go_ret; exact ⟨rfl, HB.out⟩)
    | (go_quiet (fail); have HBq : Hid (Below w.heap.size w (w0.drewN nq)) := below_drewN HB.out nq; go_wp2_with fail; go_ret; exact ⟨rfl, HBq.out⟩)

end Go.Proofs.YtiigdcpjelbdjaaGreatDoor

namespace Go.Proofs.YtiigdcpjelbdjaaGreatDoor
open Go.RowKit
set_option linter.unusedVariables false

/-- A store and a code are answered. -/
def WAns (base : Nat) (Y : List ByteArray) (ep : Int) (a : WA) (e : Ending) (w' : World) : Prop := ∃ v, e = .returned (.tuple #[v, .int .i64 a.c]) ∧ AnsS base a.X Y ep a.nx a.us v w'

/-- Uploads that say the same have as many bytes. -/
theorem sizes_same {W W' : World} {b b' B : Nat} {v v' : Value} {l l' : List UE} (hm : l'.map UE.u = l.map UE.u) (h' : UpRow W' b' v' l') (h : UpRow W b v l) (hz : ∀ e ∈ l, e.n ≤ B) : ∀ e ∈ l', e.n ≤ B := by
  intro e he
  have h1 : e.u ∈ l.map UE.u := by rw [← hm]; exact List.mem_map_of_mem he
  obtain ⟨x, hx, hxe⟩ := List.mem_map.1 h1
  have h2 := (h'.2.1 e he).seg.1
  have h3 := (h.2.1 x hx).seg.1
  have h4 := hz x hx
  rw [hxe] at h3
  omega

end Go.Proofs.YtiigdcpjelbdjaaGreatDoor

namespace Go.Proofs.YtiigdcpjelbdjaaGreatDoor
open Go.RowKit
set_option linter.unusedVariables false

set_option maxRecDepth 10000 in
set_option maxHeartbeats 3200000 in
theorem specMake_any (a : Option Addr) (n ca : Nat) (X : List ByteArray) (a' : Option Addr) (n' ca' : Nat) (Y : List ByteArray) (ep nx : Int) (ua : Option Addr) (un uc lo : Nat) (l : List UE) (id : ByteArray) (want : Int) (w : World) (h1 : Strs w a n X) (h2 : Strs w a' n' Y) (hn : n ≤ 1048576) (hn' : n' ≤ 1048576) (hzx : ∀ x ∈ X, x.size ≤ 1048576) (hu : UpRow w lo (.slice ua un uc) l) (hun : un = l.length) (hul : un ≤ 1048576) (hz : ∀ e ∈ l, e.n ≤ 1099511627776) (hid : id.size ≤ maxLen) (hwb : -9223372036854775808 ≤ want ∧ want ≤ 9223372036854775807) :
    Calls Tryz.prog 58 #[.agg #[.slice a n ca, .slice a' n' ca', .int .i64 ep, .int .i64 nx, .slice ua un uc], .string id, .int .i64 want] w fun e w' => WAns w.heap.size Y ep (makeA X Y ep nx (l.map UE.u) id want) e w' ∧ Below w.heap.size w w' := by
  have hmm : maxLen < 9223372036854775808 := by decide
  obtain ⟨W2, hW2⟩ : ∃ W2, (w.alloc (.cells #[.slice a n ca, .slice a' n' ca', .int .i64 ep, .int .i64 nx, .slice ua un uc] 29)).alloc (.cells #[.slice none 0 0, .slice none 0 0, .int .i64 0, .int .i64 0, .slice none 0 0] 29) = W2 := ⟨_, rfl⟩
  have HE : Hid ((w.alloc (.cells #[.slice a n ca, .slice a' n' ca', .int .i64 ep, .int .i64 nx, .slice ua un uc] 29)).alloc (.cells #[.slice none 0 0, .slice none 0 0, .int .i64 0, .int .i64 0, .slice none 0 0] 29) = W2) := hW2
  have HB2 : Hid (Below w.heap.size w W2) := by show Below _ _ _; rw [← hW2]; exact ((Below.refl _ _).alloc (Nat.le_refl _) _).alloc (by simp) _
  have q1 : BoxN W2 w.heap.size 29 [.slice a n ca, .slice a' n' ca', .int .i64 ep, .int .i64 nx, .slice ua un uc] := by rw [← hW2]; exact (BoxN.new _ _ _).alloc _
  have q2 : BoxN W2 (w.heap.size + 1) 29 [.slice none 0 0, .slice none 0 0, .int .i64 0, .int .i64 0, .slice none 0 0] := by
    rw [← hW2]
    have := BoxN.new (w.alloc (.cells #[.slice a n ca, .slice a' n' ca', .int .i64 ep, .int .i64 nx, .slice ua un uc] 29)) 29 [.slice none 0 0, .slice none 0 0, .int .i64 0, .int .i64 0, .slice none 0 0]
    rwa [World.size_alloc] at this
  have HQ : Hid (∀ W, Below W2.heap.size W2 W → BoxN W w.heap.size 29 [.slice a n ca, .slice a' n' ca', .int .i64 ep, .int .i64 nx, .slice ua un uc] ∧ BoxN W (w.heap.size + 1) 29 [.slice none 0 0, .slice none 0 0, .int .i64 0, .int .i64 0, .slice none 0 0]) := fun W h => ⟨q1.stays h, q2.stays h⟩
  have HX : Hid (∀ W, Below W2.heap.size W2 W → Strs W a n X ∧ Strs W a' n' Y ∧ UpRow W lo (.slice ua un uc) l) := fun W h => by
    have hw := HB2.out.trans (h.mono HB2.out.size)
    exact ⟨h1.below hw, h2.below hw, hu.stays hw⟩
  have HL : Hid (un = l.length ∧ (∀ e ∈ l, e.n ≤ 1099511627776) ∧ (∀ x ∈ X, x.size ≤ 1048576) ∧ X.length = n) := ⟨hun, hz, hzx, h1.1⟩
  have hs2 : w.heap.size + 1 < W2.heap.size := q2.lt
  clear hW2 q1 q2 h1 h2 hu hun hz hzx
  obtain ⟨c0, c1, c2, c3, c4⟩ := (show _ ∧ _ ∧ _ ∧ _ ∧ _ from ⟨(HQ.out _ (Below.refl _ _)).1.cell 0 rfl, (HQ.out _ (Below.refl _ _)).1.cell 1 rfl, (HQ.out _ (Below.refl _ _)).1.cell 2 rfl, (HQ.out _ (Below.refl _ _)).1.cell 3 rfl, (HQ.out _ (Below.refl _ _)).1.cell 4 rfl⟩)
  go_enter Tryz.func58, Tryz.ntmps58
  go_upto_region 1 with fail
  rw [HE.out]
  clear HE
  go_wp2_with fail
  refine (specScopy_any a n ca X a' n' ca' Y ep nx ua un uc lo l W2 (HX.out _ (Below.refl _ _)).1 (HX.out _ (Below.refl _ _)).2.1 hn hn' (HX.out _ (Below.refl _ _)).2.2 HL.out.1 hul HL.out.2.1).mono ?_
  rintro e y1 ⟨⟨v, rfl, hv⟩, hb1⟩
  obtain ⟨b, cb, b', cb', va, vc, l', rfl, hs1, hm1⟩ := hv.get
  rw [List.length_map, ← HL.out.1] at hs1 ⊢
  have HA1 : Hid (SAt (y1.alloc (.cells #[.slice b X.length cb, .slice b' Y.length cb', .int .i64 ep, .int .i64 nx, .slice va un vc] 29)) W2.heap.size y1.heap.size b X.length cb X b' Y.length cb' Y ep nx va un vc l') := SAt.new hs1 hb1.size
  have HC1 : Hid (Below W2.heap.size W2 (y1.alloc (.cells #[.slice b X.length cb, .slice b' Y.length cb', .int .i64 ep, .int .i64 nx, .slice va un vc] 29))) := hb1.alloc hb1.size _
  have HM : Hid (l'.map UE.u = l.map UE.u) := hm1
  have HZ' : Hid (∀ e ∈ l', e.n ≤ 1099511627776) := sizes_same hm1 hs1.ups (HX.out _ (Below.refl _ _)).2.2 HL.out.2.1
  clear hv hs1 hb1 hm1 c0 c1 c2 c3 c4
  obtain ⟨d0, d1, d2, d3, d4⟩ := (show _ ∧ _ ∧ _ ∧ _ ∧ _ from ⟨(HQ.out _ HC1.out).1.cell 0 rfl, (HQ.out _ HC1.out).1.cell 1 rfl, (HQ.out _ HC1.out).1.cell 2 rfl, (HQ.out _ HC1.out).1.cell 3 rfl, (HQ.out _ HC1.out).1.cell 4 rfl⟩)
  go_wp2_with fail
  obtain ⟨w1, hw1⟩ : ∃ w1, y1.alloc (.cells #[.slice b X.length cb, .slice b' Y.length cb', .int .i64 ep, .int .i64 nx, .slice va un vc] 29) = w1 := ⟨_, rfl⟩
  rw [hw1] at HA1 HC1 ⊢
  clear hw1 d0 d1 d2 d3 d4
  have hlo : W2.heap.size ≤ y1.heap.size := HA1.out.lob
  generalize y1.heap.size = bo at *
  refine (specSok_any a n ca X a' n' ca' Y ep nx ua un uc lo l w1 (HX.out _ HC1.out).1 (HX.out _ HC1.out).2.1 hn hn' HL.out.2.2.1 (HX.out _ HC1.out).2.2 HL.out.1 hul).mono ?_
  rintro e y2 ⟨⟨ok, rfl, hok⟩, hb2⟩
  have hdb : ok = decB (SOk X Y ep nx (l.map UE.u)) := decB_iff hok
  have HA2 : Hid (SAt y2 W2.heap.size bo b X.length cb X b' Y.length cb' Y ep nx va un vc l') := HA1.out.stays hb2
  have HC2 : Hid (Below W2.heap.size W2 y2) := HC1.out.trans (hb2.mono HC1.out.size)
  clear hb2 HA1 HC1
  cases ok with
  | false =>
    have hno : ¬ decB (SOk X Y ep nx (l.map UE.u)) = true := by rw [← hdb]; simp
    clear hok hdb
    have HRs : Hid (makeA X Y ep nx (l.map UE.u) id want = ⟨X, nx, l.map UE.u, 1⟩) := if_neg (fun h => hno h.1)
    have HBw : Hid (Below w.heap.size w y2) := HB2.out.trans (HC2.out.mono HB2.out.size)
    obtain ⟨r0, r1, r2, r3, r4⟩ := (show _ ∧ _ ∧ _ ∧ _ ∧ _ from ⟨(HQ.out _ HC2.out).2.cell 0 rfl, (HQ.out _ HC2.out).2.cell 1 rfl, (HQ.out _ HC2.out).2.cell 2 rfl, (HQ.out _ HC2.out).2.cell 3 rfl, (HQ.out _ HC2.out).2.cell 4 rfl⟩)
    obtain ⟨f0, f1, f2, f3, f4⟩ := (show _ ∧ _ ∧ _ ∧ _ ∧ _ from ⟨(HQ.out _ HC2.out).2.frozen 0, (HQ.out _ HC2.out).2.frozen 1, (HQ.out _ HC2.out).2.frozen 2, (HQ.out _ HC2.out).2.frozen 3, (HQ.out _ HC2.out).2.frozen 4⟩)
    obtain ⟨o0, o1, o2, o3, o4⟩ := (show _ ∧ _ ∧ _ ∧ _ ∧ _ from ⟨HA2.out.box.cell 0 rfl, HA2.out.box.cell 1 rfl, HA2.out.box.cell 2 rfl, HA2.out.box.cell 3 rfl, HA2.out.box.cell 4 rfl⟩)
    have HSt : Hid (StoAt y2 W2.heap.size b X.length cb X b' Y.length cb' Y va un vc l') := HA2.out.sto
    clear HQ HX HC2 HA2
    go_wp2_with fail
    refine bodyPost_ret (v := .tuple #[.agg #[.slice b X.length cb, .slice b' Y.length cb', .int .i64 ep, .int .i64 nx, .slice va un vc], .int .i64 1]) (by simp [results, Tryz.f58, go_sem, r0, r1, r2, r3, r4]) rfl ?_
    refine ⟨?_, ?_⟩
    · rw [WAns, HRs.out]
      exact ⟨_, rfl, b, X.length, cb, b', Y.length, cb', va, un, vc, l', rfl, (((((HSt.out.setLow (by omega) _).setLow (by omega) _).setLow (by omega) _).setLow (by omega) _).setLow (by omega) _).low (by omega), HM.out⟩
    · exact ((((HBw.out.setCell (by dsimp only; omega) _).setCell (by dsimp only; omega) _).setCell (by dsimp only; omega) _).setCell (by dsimp only; omega) _).setCell (by dsimp only; omega) _
  | true =>
  have HSo : Hid (SOk X Y ep nx (l.map UE.u)) := hok.1 rfl
  have HDb : Hid (decB (SOk X Y ep nx (l.map UE.u)) = true) := hdb.symm
  clear hok hdb
  go_wp2_with fail
  refine (specId_any id y2 (by omega)).mono ?_
  rintro _ y2 ⟨rfl, rfl⟩
  cases hidB : idB id.data.toList with
  | false =>
    have hno : ¬ idB id.data.toList = true := by rw [hidB]; simp
    clear hidB
    have HRs : Hid (makeA X Y ep nx (l.map UE.u) id want = ⟨X, nx, l.map UE.u, 1⟩) := if_neg (fun h => hno h.2.1)
    have HBw : Hid (Below w.heap.size w y2) := HB2.out.trans (HC2.out.mono HB2.out.size)
    obtain ⟨r0, r1, r2, r3, r4⟩ := (show _ ∧ _ ∧ _ ∧ _ ∧ _ from ⟨(HQ.out _ HC2.out).2.cell 0 rfl, (HQ.out _ HC2.out).2.cell 1 rfl, (HQ.out _ HC2.out).2.cell 2 rfl, (HQ.out _ HC2.out).2.cell 3 rfl, (HQ.out _ HC2.out).2.cell 4 rfl⟩)
    obtain ⟨f0, f1, f2, f3, f4⟩ := (show _ ∧ _ ∧ _ ∧ _ ∧ _ from ⟨(HQ.out _ HC2.out).2.frozen 0, (HQ.out _ HC2.out).2.frozen 1, (HQ.out _ HC2.out).2.frozen 2, (HQ.out _ HC2.out).2.frozen 3, (HQ.out _ HC2.out).2.frozen 4⟩)
    obtain ⟨o0, o1, o2, o3, o4⟩ := (show _ ∧ _ ∧ _ ∧ _ ∧ _ from ⟨HA2.out.box.cell 0 rfl, HA2.out.box.cell 1 rfl, HA2.out.box.cell 2 rfl, HA2.out.box.cell 3 rfl, HA2.out.box.cell 4 rfl⟩)
    have HSt : Hid (StoAt y2 W2.heap.size b X.length cb X b' Y.length cb' Y va un vc l') := HA2.out.sto
    clear HQ HX HC2 HA2
    go_wp2_with fail
    refine bodyPost_ret (v := .tuple #[.agg #[.slice b X.length cb, .slice b' Y.length cb', .int .i64 ep, .int .i64 nx, .slice va un vc], .int .i64 1]) (by simp [results, Tryz.f58, go_sem, r0, r1, r2, r3, r4]) rfl ?_
    refine ⟨?_, ?_⟩
    · rw [WAns, HRs.out]
      exact ⟨_, rfl, b, X.length, cb, b', Y.length, cb', va, un, vc, l', rfl, (((((HSt.out.setLow (by omega) _).setLow (by omega) _).setLow (by omega) _).setLow (by omega) _).setLow (by omega) _).low (by omega), HM.out⟩
    · exact ((((HBw.out.setCell (by dsimp only; omega) _).setCell (by dsimp only; omega) _).setCell (by dsimp only; omega) _).setCell (by dsimp only; omega) _).setCell (by dsimp only; omega) _
  | true =>
  have HId : Hid (idB id.data.toList = true) := hidB
  clear hidB
  go_wp2_with fail
  refine (l1In_any want 0 1000000 y2).mono ?_
  rintro _ y2 ⟨rfl, rfl⟩
  by_cases hwant : 0 ≤ want ∧ want ≤ 1000000
  case neg =>
    rw [decide_eq_false hwant]
    have HRs : Hid (makeA X Y ep nx (l.map UE.u) id want = ⟨X, nx, l.map UE.u, 1⟩) := if_neg (fun h => hwant h.2.2)
    have HBw : Hid (Below w.heap.size w y2) := HB2.out.trans (HC2.out.mono HB2.out.size)
    obtain ⟨r0, r1, r2, r3, r4⟩ := (show _ ∧ _ ∧ _ ∧ _ ∧ _ from ⟨(HQ.out _ HC2.out).2.cell 0 rfl, (HQ.out _ HC2.out).2.cell 1 rfl, (HQ.out _ HC2.out).2.cell 2 rfl, (HQ.out _ HC2.out).2.cell 3 rfl, (HQ.out _ HC2.out).2.cell 4 rfl⟩)
    obtain ⟨f0, f1, f2, f3, f4⟩ := (show _ ∧ _ ∧ _ ∧ _ ∧ _ from ⟨(HQ.out _ HC2.out).2.frozen 0, (HQ.out _ HC2.out).2.frozen 1, (HQ.out _ HC2.out).2.frozen 2, (HQ.out _ HC2.out).2.frozen 3, (HQ.out _ HC2.out).2.frozen 4⟩)
    obtain ⟨o0, o1, o2, o3, o4⟩ := (show _ ∧ _ ∧ _ ∧ _ ∧ _ from ⟨HA2.out.box.cell 0 rfl, HA2.out.box.cell 1 rfl, HA2.out.box.cell 2 rfl, HA2.out.box.cell 3 rfl, HA2.out.box.cell 4 rfl⟩)
    have HSt : Hid (StoAt y2 W2.heap.size b X.length cb X b' Y.length cb' Y va un vc l') := HA2.out.sto
    clear HQ HX HC2 HA2
    go_wp2_with fail
    refine bodyPost_ret (v := .tuple #[.agg #[.slice b X.length cb, .slice b' Y.length cb', .int .i64 ep, .int .i64 nx, .slice va un vc], .int .i64 1]) (by simp [results, Tryz.f58, go_sem, r0, r1, r2, r3, r4]) rfl ?_
    refine ⟨?_, ?_⟩
    · rw [WAns, HRs.out]
      exact ⟨_, rfl, b, X.length, cb, b', Y.length, cb', va, un, vc, l', rfl, (((((HSt.out.setLow (by omega) _).setLow (by omega) _).setLow (by omega) _).setLow (by omega) _).setLow (by omega) _).low (by omega), HM.out⟩
    · exact ((((HBw.out.setCell (by dsimp only; omega) _).setCell (by dsimp only; omega) _).setCell (by dsimp only; omega) _).setCell (by dsimp only; omega) _).setCell (by dsimp only; omega) _
  rw [decide_eq_true hwant]
  have hsn := HSo.out.nums
  obtain ⟨hen, hn0, hnX, hX200⟩ := hsn
  have hfew : un ≤ 10 := by have := HSo.out.few; rw [List.length_map, ← HL.out.1] at this; exact this
  obtain ⟨d0, d1, d2, d3, d4⟩ := (show _ ∧ _ ∧ _ ∧ _ ∧ _ from ⟨(HQ.out _ HC2.out).1.cell 0 rfl, (HQ.out _ HC2.out).1.cell 1 rfl, (HQ.out _ HC2.out).1.cell 2 rfl, (HQ.out _ HC2.out).1.cell 3 rfl, (HQ.out _ HC2.out).1.cell 4 rfl⟩)
  go_wp2_with fail
  refine (specAtU_any ua un uc lo id l y2 (HX.out _ HC2.out).2.2 HL.out.1 (by omega)).mono ?_
  rintro _ y2 ⟨rfl, rfl⟩
  clear d0 d1 d2 d3 d4
  cases hat : atU (l.map UE.u) id with
  | some k =>
    have hki : atI (l.map UE.u) id = (k : Int) := by rw [atI, hat]
    have hk0 : (0 : Int) ≤ (k : Int) := by omega
    rw [hki]
    have HRs : Hid (makeA X Y ep nx (l.map UE.u) id want = ⟨X, nx, l.map UE.u, 3⟩) := by show _ = _; rw [makeA, if_pos ⟨HDb.out, HId.out, hwant⟩, hat, if_neg (by simp)]
    have HBw : Hid (Below w.heap.size w y2) := HB2.out.trans (HC2.out.mono HB2.out.size)
    obtain ⟨r0, r1, r2, r3, r4⟩ := (show _ ∧ _ ∧ _ ∧ _ ∧ _ from ⟨(HQ.out _ HC2.out).2.cell 0 rfl, (HQ.out _ HC2.out).2.cell 1 rfl, (HQ.out _ HC2.out).2.cell 2 rfl, (HQ.out _ HC2.out).2.cell 3 rfl, (HQ.out _ HC2.out).2.cell 4 rfl⟩)
    obtain ⟨f0, f1, f2, f3, f4⟩ := (show _ ∧ _ ∧ _ ∧ _ ∧ _ from ⟨(HQ.out _ HC2.out).2.frozen 0, (HQ.out _ HC2.out).2.frozen 1, (HQ.out _ HC2.out).2.frozen 2, (HQ.out _ HC2.out).2.frozen 3, (HQ.out _ HC2.out).2.frozen 4⟩)
    obtain ⟨o0, o1, o2, o3, o4⟩ := (show _ ∧ _ ∧ _ ∧ _ ∧ _ from ⟨HA2.out.box.cell 0 rfl, HA2.out.box.cell 1 rfl, HA2.out.box.cell 2 rfl, HA2.out.box.cell 3 rfl, HA2.out.box.cell 4 rfl⟩)
    have HSt : Hid (StoAt y2 W2.heap.size b X.length cb X b' Y.length cb' Y va un vc l') := HA2.out.sto
    clear HQ HX HC2 HA2
    go_wp2_with fail
    refine bodyPost_ret (v := .tuple #[.agg #[.slice b X.length cb, .slice b' Y.length cb', .int .i64 ep, .int .i64 nx, .slice va un vc], .int .i64 3]) (by simp [results, Tryz.f58, go_sem, r0, r1, r2, r3, r4]) rfl ?_
    refine ⟨?_, ?_⟩
    · rw [WAns, HRs.out]
      exact ⟨_, rfl, b, X.length, cb, b', Y.length, cb', va, un, vc, l', rfl, (((((HSt.out.setLow (by omega) _).setLow (by omega) _).setLow (by omega) _).setLow (by omega) _).setLow (by omega) _).low (by omega), HM.out⟩
    · exact ((((HBw.out.setCell (by dsimp only; omega) _).setCell (by dsimp only; omega) _).setCell (by dsimp only; omega) _).setCell (by dsimp only; omega) _).setCell (by dsimp only; omega) _
  | none =>
  have hki : atI (l.map UE.u) id = -1 := by rw [atI, hat]
  rw [hki]
  obtain ⟨d0, d1, d2, d3, d4⟩ := (show _ ∧ _ ∧ _ ∧ _ ∧ _ from ⟨(HQ.out _ HC2.out).1.cell 0 rfl, (HQ.out _ HC2.out).1.cell 1 rfl, (HQ.out _ HC2.out).1.cell 2 rfl, (HQ.out _ HC2.out).1.cell 3 rfl, (HQ.out _ HC2.out).1.cell 4 rfl⟩)
  go_wp2_with fail
  refine (specLeft_any a n ca a' n' ca' ep nx ua un uc y2 (by omega) (by omega)).mono ?_
  rintro _ y3 ⟨rfl, hb3⟩
  clear d0 d1 d2 d3 d4
  have HA3 : Hid (SAt y3 W2.heap.size bo b X.length cb X b' Y.length cb' Y ep nx va un vc l') := HA2.out.stays hb3
  have HC3 : Hid (Below W2.heap.size W2 y3) := HC2.out.trans (hb3.mono HC2.out.size)
  clear hb3 HA2 HC2
  by_cases hroom : (n : Int) - nx < 1
  · have hrn : ¬ nx < (X.length : Int) := by have := HL.out.2.2.2; omega
    have HRs : Hid (makeA X Y ep nx (l.map UE.u) id want = ⟨X, nx, l.map UE.u, 5⟩) := by show _ = _; rw [makeA, if_pos ⟨HDb.out, HId.out, hwant⟩, hat, if_pos rfl, if_neg (fun h => hrn h.1)]
    have HBw : Hid (Below w.heap.size w y3) := HB2.out.trans (HC3.out.mono HB2.out.size)
    obtain ⟨r0, r1, r2, r3, r4⟩ := (show _ ∧ _ ∧ _ ∧ _ ∧ _ from ⟨(HQ.out _ HC3.out).2.cell 0 rfl, (HQ.out _ HC3.out).2.cell 1 rfl, (HQ.out _ HC3.out).2.cell 2 rfl, (HQ.out _ HC3.out).2.cell 3 rfl, (HQ.out _ HC3.out).2.cell 4 rfl⟩)
    obtain ⟨f0, f1, f2, f3, f4⟩ := (show _ ∧ _ ∧ _ ∧ _ ∧ _ from ⟨(HQ.out _ HC3.out).2.frozen 0, (HQ.out _ HC3.out).2.frozen 1, (HQ.out _ HC3.out).2.frozen 2, (HQ.out _ HC3.out).2.frozen 3, (HQ.out _ HC3.out).2.frozen 4⟩)
    obtain ⟨o0, o1, o2, o3, o4⟩ := (show _ ∧ _ ∧ _ ∧ _ ∧ _ from ⟨HA3.out.box.cell 0 rfl, HA3.out.box.cell 1 rfl, HA3.out.box.cell 2 rfl, HA3.out.box.cell 3 rfl, HA3.out.box.cell 4 rfl⟩)
    have HSt : Hid (StoAt y3 W2.heap.size b X.length cb X b' Y.length cb' Y va un vc l') := HA3.out.sto
    clear HQ HX HC3 HA3
    go_wp2_with fail
    refine bodyPost_ret (v := .tuple #[.agg #[.slice b X.length cb, .slice b' Y.length cb', .int .i64 ep, .int .i64 nx, .slice va un vc], .int .i64 5]) (by simp [results, Tryz.f58, go_sem, r0, r1, r2, r3, r4]) rfl ?_
    refine ⟨?_, ?_⟩
    · rw [WAns, HRs.out]
      exact ⟨_, rfl, b, X.length, cb, b', Y.length, cb', va, un, vc, l', rfl, (((((HSt.out.setLow (by omega) _).setLow (by omega) _).setLow (by omega) _).setLow (by omega) _).setLow (by omega) _).low (by omega), HM.out⟩
    · exact ((((HBw.out.setCell (by dsimp only; omega) _).setCell (by dsimp only; omega) _).setCell (by dsimp only; omega) _).setCell (by dsimp only; omega) _).setCell (by dsimp only; omega) _
  obtain ⟨d0, d1, d2, d3, d4⟩ := (show _ ∧ _ ∧ _ ∧ _ ∧ _ from ⟨(HQ.out _ HC3.out).1.cell 0 rfl, (HQ.out _ HC3.out).1.cell 1 rfl, (HQ.out _ HC3.out).1.cell 2 rfl, (HQ.out _ HC3.out).1.cell 3 rfl, (HQ.out _ HC3.out).1.cell 4 rfl⟩)
  by_cases hten : un = 10
  · have htn : (l.map UE.u).length = 10 := by rw [List.length_map, ← HL.out.1]; exact hten
    have hti : ((un : Int) == 10) = true := by rw [hten]; rfl
    clear hten
    have HRs : Hid (makeA X Y ep nx (l.map UE.u) id want = ⟨X, nx, l.map UE.u, 5⟩) := by show _ = _; rw [makeA, if_pos ⟨HDb.out, HId.out, hwant⟩, hat, if_pos rfl, if_neg (fun h => h.2 htn)]
    have HBw : Hid (Below w.heap.size w y3) := HB2.out.trans (HC3.out.mono HB2.out.size)
    obtain ⟨r0, r1, r2, r3, r4⟩ := (show _ ∧ _ ∧ _ ∧ _ ∧ _ from ⟨(HQ.out _ HC3.out).2.cell 0 rfl, (HQ.out _ HC3.out).2.cell 1 rfl, (HQ.out _ HC3.out).2.cell 2 rfl, (HQ.out _ HC3.out).2.cell 3 rfl, (HQ.out _ HC3.out).2.cell 4 rfl⟩)
    obtain ⟨f0, f1, f2, f3, f4⟩ := (show _ ∧ _ ∧ _ ∧ _ ∧ _ from ⟨(HQ.out _ HC3.out).2.frozen 0, (HQ.out _ HC3.out).2.frozen 1, (HQ.out _ HC3.out).2.frozen 2, (HQ.out _ HC3.out).2.frozen 3, (HQ.out _ HC3.out).2.frozen 4⟩)
    obtain ⟨o0, o1, o2, o3, o4⟩ := (show _ ∧ _ ∧ _ ∧ _ ∧ _ from ⟨HA3.out.box.cell 0 rfl, HA3.out.box.cell 1 rfl, HA3.out.box.cell 2 rfl, HA3.out.box.cell 3 rfl, HA3.out.box.cell 4 rfl⟩)
    have HSt : Hid (StoAt y3 W2.heap.size b X.length cb X b' Y.length cb' Y va un vc l') := HA3.out.sto
    clear HQ HX HC3 HA3
    go_wp2_with fail
    refine bodyPost_ret (v := .tuple #[.agg #[.slice b X.length cb, .slice b' Y.length cb', .int .i64 ep, .int .i64 nx, .slice va un vc], .int .i64 5]) (by simp [results, Tryz.f58, go_sem, r0, r1, r2, r3, r4]) rfl ?_
    refine ⟨?_, ?_⟩
    · rw [WAns, HRs.out]
      exact ⟨_, rfl, b, X.length, cb, b', Y.length, cb', va, un, vc, l', rfl, (((((HSt.out.setLow (by omega) _).setLow (by omega) _).setLow (by omega) _).setLow (by omega) _).setLow (by omega) _).low (by omega), HM.out⟩
    · exact ((((HBw.out.setCell (by dsimp only; omega) _).setCell (by dsimp only; omega) _).setCell (by dsimp only; omega) _).setCell (by dsimp only; omega) _).setCell (by dsimp only; omega) _
  have hti : ((un : Int) == 10) = false := by simpa using (show ¬ (un : Int) = 10 by omega)
  have htn : (l.map UE.u).length ≠ 10 := by rw [List.length_map, ← HL.out.1]; exact hten
  have ho1 := make_fits (want := want) hat HSo.out.few htn
  obtain ⟨M, hM⟩ := Int.eq_ofNat_of_zero_le hn0
  obtain ⟨E, hE⟩ := Int.eq_ofNat_of_zero_le hen.1
  subst hM hE
  have hMl : M < X.length := by have := HL.out.2.2.2; omega
  obtain ⟨V, hV⟩ := Int.eq_ofNat_of_zero_le hwant.1
  subst hV
  have HRs : Hid (makeA X Y (E : Int) (M : Int) (l.map UE.u) id (V : Int) = ⟨X.set M (txU (sumB (recB E M 1 id V []))), (M : Int) + 1, (makeU (l.map UE.u) ⟨id, (V : Int), [], false⟩), 0⟩) := by
    show _ = _
    rw [makeA, if_pos ⟨HDb.out, HId.out, hwant⟩, hat, if_pos rfl, if_pos ⟨by omega, htn⟩]
    show wroteA X (E : Int) (M : Int) (l.map UE.u) [makeR id (V : Int)] = _
    have hf : [makeR id (V : Int)].foldlM oneU (l.map UE.u) = some (makeU (l.map UE.u) ⟨id, (V : Int), [], false⟩) := by rw [List.foldlM_cons, ho1]; rfl
    rw [wroteA, hf]
    rfl
  have hsq : HA3.out.box = HA3.out.box := rfl
  have hi8 : id.size ≤ 255 := by
    have h := HId.out
    simp only [idB, Bool.and_eq_true, decide_eq_true_eq, Array.length_toList] at h
    have h8 : id.data.size = id.size := rfl
    omega
  have HWr : Hid (Calls Tryz.prog 89 #[.pointer (some ⟨bo, 0, none⟩), .agg #[.int .i64 0, .int .i64 0, .int .i64 1, .string id, .int .i64 (V : Int), .slice none 0 0]] y3 fun e w' => e = .returned (.tuple #[]) ∧ (∃ ua' un' uc' l2, BoxN w' bo 29 [.slice b X.length cb, .slice b' Y.length cb', .int .i64 (E : Int), .int .i64 ((M : Int) + 1), .slice ua' un' uc'] ∧ StoAt w' W2.heap.size b X.length cb (X.set M (txU (sumB (recB E M 1 id V [])))) b' Y.length cb' Y ua' un' uc' l2 ∧ l2.map UE.u = (makeU (l.map UE.u) ⟨id, (V : Int), [], false⟩)) ∧ Below W2.heap.size y3 w') :=
    specWrite_any W2.heap.size bo b cb X b' Y.length cb' Y E M va un vc l' 0 0 1 id V none 0 0 [] (makeU (l.map UE.u) ⟨id, (V : Int), [], false⟩) y3 HA3.out.box HA3.out.sto hlo 0 (owns_nil _ _) hMl (by omega) (by omega) HZ'.out hi8 (by omega) (by omega) (by omega) (by omega) (by rw [HM.out]; exact ho1)
  go_wp2_with fail
  refine HWr.out.mono ?_
  rintro _ y4 ⟨rfl, ⟨ua', un', uc', l2, hq4, hs4, hm4⟩, hb4⟩
  have HC4 : Hid (Below W2.heap.size W2 y4) := HC3.out.trans hb4
  have HBw : Hid (Below w.heap.size w y4) := HB2.out.trans (HC4.out.mono HB2.out.size)
  obtain ⟨r0, r1, r2, r3, r4⟩ := (show _ ∧ _ ∧ _ ∧ _ ∧ _ from ⟨(HQ.out _ HC4.out).2.cell 0 rfl, (HQ.out _ HC4.out).2.cell 1 rfl, (HQ.out _ HC4.out).2.cell 2 rfl, (HQ.out _ HC4.out).2.cell 3 rfl, (HQ.out _ HC4.out).2.cell 4 rfl⟩)
  obtain ⟨f0, f1, f2, f3, f4⟩ := (show _ ∧ _ ∧ _ ∧ _ ∧ _ from ⟨(HQ.out _ HC4.out).2.frozen 0, (HQ.out _ HC4.out).2.frozen 1, (HQ.out _ HC4.out).2.frozen 2, (HQ.out _ HC4.out).2.frozen 3, (HQ.out _ HC4.out).2.frozen 4⟩)
  obtain ⟨o0, o1, o2, o3, o4⟩ := (show _ ∧ _ ∧ _ ∧ _ ∧ _ from ⟨hq4.cell 0 rfl, hq4.cell 1 rfl, hq4.cell 2 rfl, hq4.cell 3 rfl, hq4.cell 4 rfl⟩)
  have HSt : Hid (StoAt y4 W2.heap.size b X.length cb (X.set M (txU (sumB (recB E M 1 id V [])))) b' Y.length cb' Y ua' un' uc' l2 ∧ l2.map UE.u = (makeU (l.map UE.u) ⟨id, (V : Int), [], false⟩)) := ⟨hs4, hm4⟩
  clear HQ HX HC3 HA3 HC4 hq4 hs4 hm4 hb4 HWr
  go_wp2_with fail
  refine bodyPost_ret (v := .tuple #[.agg #[.slice b X.length cb, .slice b' Y.length cb', .int .i64 (E : Int), .int .i64 ((M : Int) + 1), .slice ua' un' uc'], .int .i64 0]) (by simp [results, Tryz.f58, go_sem, r0, r1, r2, r3, r4]) rfl ?_
  refine ⟨?_, ?_⟩
  · rw [WAns, HRs.out]
    exact ⟨_, rfl, b, X.length, cb, b', Y.length, cb', ua', un', uc', l2, rfl, (((((HSt.out.1.setLow (by omega) _).setLow (by omega) _).setLow (by omega) _).setLow (by omega) _).setLow (by omega) _).low (by omega), HSt.out.2⟩
  · exact ((((HBw.out.setCell (by dsimp only; omega) _).setCell (by dsimp only; omega) _).setCell (by dsimp only; omega) _).setCell (by dsimp only; omega) _).setCell (by dsimp only; omega) _

end Go.Proofs.YtiigdcpjelbdjaaGreatDoor

namespace Go.Proofs.YtiigdcpjelbdjaaGreatDoor
open Go.RowKit
set_option linter.unusedVariables false

theorem seg_part {w : World} {b off len : Nat} {zs : List Int} (h : Seg w (some ⟨b, off, none⟩) len zs) (T n : Nat) (hT : T + n ≤ len) : Seg w (some ⟨b, off + T, none⟩) n ((zs.drop T).take n) := by
  have hl := h.1
  refine ⟨by rw [List.length_take, List.length_drop]; omega, fun x hx => h.2.1 x (List.mem_of_mem_drop (List.mem_of_mem_take hx)), ?_⟩
  rcases h.2.2 with h0 | ⟨b', off', e, hb, hc⟩
  · exact .inl (by omega)
  · simp only [Option.some.injEq, Addr.mk.injEq, and_true] at e
    obtain ⟨rfl, rfl⟩ := e
    refine .inr ⟨b, off + T, rfl, hb, fun i hi => ?_⟩
    rw [Nat.add_assoc, hc (T + i) (by omega)]
    rw [List.getD_eq_getElem?_getD, List.getD_eq_getElem?_getD, List.getElem?_take, if_pos hi, List.getElem?_drop]

theorem seg_empty {w : World} (a : Option Addr) : Seg w a 0 [] := ⟨rfl, by simp, .inl rfl⟩

theorem seg_some {w : World} {a : Option Addr} {len : Nat} {zs : List Int} (h : Seg w a len zs) (hl : 0 < len) : ∃ b off, a = some ⟨b, off, none⟩ ∧ w.cell? ⟨b, off, none⟩ = some (.int .u8 (zs.getD 0 0)) := by
  rcases h.2.2 with h0 | ⟨b, off, e, _, hc⟩
  · omega
  · exact ⟨b, off, e, by simpa using hc 0 hl⟩

/-- A piece of a list of bytes, by an address that may have stayed where it was if nothing is left. -/
theorem seg_cut {w : World} {b off len : Nat} {zs : List Int} (h : Seg w (some ⟨b, off, none⟩) len zs) (T n o : Nat) (hT : T + n ≤ len) (ho : o = off + T ∨ n = 0) : Seg w (some ⟨b, o, none⟩) n ((zs.drop T).take n) := by
  rcases ho with rfl | rfl
  · exact seg_part h T n hT
  · exact ⟨by simp, by simp, .inl rfl⟩

end Go.Proofs.YtiigdcpjelbdjaaGreatDoor

namespace Go.Proofs.YtiigdcpjelbdjaaGreatDoor
open Go.RowKit
set_option linter.unusedVariables false

set_option maxRecDepth 10000 in
set_option maxHeartbeats 6400000 in
theorem specPutUp_any (a : Option Addr) (n ca : Nat) (X : List ByteArray) (a' : Option Addr) (n' ca' : Nat) (Y : List ByteArray) (ep nx : Int) (ua : Option Addr) (un uc lo : Nat) (l : List UE) (id : ByteArray) (off : Int) (da : Option Addr) (dl dc : Nat) (zs : List Int) (w : World) (h1 : Strs w a n X) (h2 : Strs w a' n' Y) (hn : n ≤ 1048576) (hn' : n' ≤ 1048576) (hzx : ∀ x ∈ X, x.size ≤ 1048576) (hu : UpRow w lo (.slice ua un uc) l) (hun : un = l.length) (hul : un ≤ 1048576) (hz : ∀ e ∈ l, e.n ≤ 1099511627776) (hid : id.size ≤ maxLen) (hob : -9223372036854775808 ≤ off ∧ off ≤ 9223372036854775807) (hsd : Seg w da dl zs) (hdc : dl ≤ dc) (hdl : dl ≤ maxLen) :
    Calls Tryz.prog 60 #[.agg #[.slice a n ca, .slice a' n' ca', .int .i64 ep, .int .i64 nx, .slice ua un uc], .string id, .int .i64 off, .slice da dl dc] w fun e w' => WAns w.heap.size Y ep (putA X Y ep nx (l.map UE.u) id off zs) e w' ∧ Below w.heap.size w w' := by
  have hmm : maxLen < 9223372036854775808 := by decide
  obtain ⟨W2, hW2⟩ : ∃ W2, (w.alloc (.cells #[.slice a n ca, .slice a' n' ca', .int .i64 ep, .int .i64 nx, .slice ua un uc] 29)).alloc (.cells #[.slice none 0 0, .slice none 0 0, .int .i64 0, .int .i64 0, .slice none 0 0] 29) = W2 := ⟨_, rfl⟩
  have HE : Hid ((w.alloc (.cells #[.slice a n ca, .slice a' n' ca', .int .i64 ep, .int .i64 nx, .slice ua un uc] 29)).alloc (.cells #[.slice none 0 0, .slice none 0 0, .int .i64 0, .int .i64 0, .slice none 0 0] 29) = W2) := hW2
  have HB2 : Hid (Below w.heap.size w W2) := by show Below _ _ _; rw [← hW2]; exact ((Below.refl _ _).alloc (Nat.le_refl _) _).alloc (by simp) _
  have q1 : BoxN W2 w.heap.size 29 [.slice a n ca, .slice a' n' ca', .int .i64 ep, .int .i64 nx, .slice ua un uc] := by rw [← hW2]; exact (BoxN.new _ _ _).alloc _
  have q2 : BoxN W2 (w.heap.size + 1) 29 [.slice none 0 0, .slice none 0 0, .int .i64 0, .int .i64 0, .slice none 0 0] := by
    rw [← hW2]
    have := BoxN.new (w.alloc (.cells #[.slice a n ca, .slice a' n' ca', .int .i64 ep, .int .i64 nx, .slice ua un uc] 29)) 29 [.slice none 0 0, .slice none 0 0, .int .i64 0, .int .i64 0, .slice none 0 0]
    rwa [World.size_alloc] at this
  have HQ : Hid (∀ W, Below W2.heap.size W2 W → BoxN W w.heap.size 29 [.slice a n ca, .slice a' n' ca', .int .i64 ep, .int .i64 nx, .slice ua un uc] ∧ BoxN W (w.heap.size + 1) 29 [.slice none 0 0, .slice none 0 0, .int .i64 0, .int .i64 0, .slice none 0 0]) := fun W h => ⟨q1.stays h, q2.stays h⟩
  have HX : Hid (∀ W, Below W2.heap.size W2 W → Strs W a n X ∧ Strs W a' n' Y ∧ UpRow W lo (.slice ua un uc) l ∧ Seg W da dl zs) := fun W h => by
    have hw := HB2.out.trans (h.mono HB2.out.size)
    exact ⟨h1.below hw, h2.below hw, hu.stays hw, hsd.below hw⟩
  have HL : Hid (un = l.length ∧ (∀ e ∈ l, e.n ≤ 1099511627776) ∧ (∀ x ∈ X, x.size ≤ 1048576) ∧ X.length = n ∧ zs.length = dl) := ⟨hun, hz, hzx, h1.1, hsd.1⟩
  have hs2 : w.heap.size + 1 < W2.heap.size := q2.lt
  clear hW2 q1 q2 h1 h2 hu hun hz hzx hsd
  obtain ⟨c0, c1, c2, c3, c4⟩ := (show _ ∧ _ ∧ _ ∧ _ ∧ _ from ⟨(HQ.out _ (Below.refl _ _)).1.cell 0 rfl, (HQ.out _ (Below.refl _ _)).1.cell 1 rfl, (HQ.out _ (Below.refl _ _)).1.cell 2 rfl, (HQ.out _ (Below.refl _ _)).1.cell 3 rfl, (HQ.out _ (Below.refl _ _)).1.cell 4 rfl⟩)
  go_enter Tryz.func60, Tryz.ntmps60
  go_upto_region 1 with fail
  rw [HE.out]
  clear HE
  go_wp2_with fail
  refine (specScopy_any a n ca X a' n' ca' Y ep nx ua un uc lo l W2 (HX.out _ (Below.refl _ _)).1 (HX.out _ (Below.refl _ _)).2.1 hn hn' (HX.out _ (Below.refl _ _)).2.2.1 HL.out.1 hul HL.out.2.1).mono ?_
  rintro e y1 ⟨⟨v, rfl, hv⟩, hb1⟩
  obtain ⟨b, cb, b', cb', va, vc, l', rfl, hs1, hm1⟩ := hv.get
  rw [List.length_map, ← HL.out.1] at hs1 ⊢
  have HA1 : Hid (SAt (y1.alloc (.cells #[.slice b X.length cb, .slice b' Y.length cb', .int .i64 ep, .int .i64 nx, .slice va un vc] 29)) W2.heap.size y1.heap.size b X.length cb X b' Y.length cb' Y ep nx va un vc l') := SAt.new hs1 hb1.size
  have HC1 : Hid (Below W2.heap.size W2 (y1.alloc (.cells #[.slice b X.length cb, .slice b' Y.length cb', .int .i64 ep, .int .i64 nx, .slice va un vc] 29))) := hb1.alloc hb1.size _
  have HM : Hid (l'.map UE.u = l.map UE.u) := hm1
  have HZ' : Hid (∀ e ∈ l', e.n ≤ 1099511627776) := sizes_same hm1 hs1.ups (HX.out _ (Below.refl _ _)).2.2.1 HL.out.2.1
  clear hv hs1 hb1 hm1 c0 c1 c2 c3 c4
  obtain ⟨d0, d1, d2, d3, d4⟩ := (show _ ∧ _ ∧ _ ∧ _ ∧ _ from ⟨(HQ.out _ HC1.out).1.cell 0 rfl, (HQ.out _ HC1.out).1.cell 1 rfl, (HQ.out _ HC1.out).1.cell 2 rfl, (HQ.out _ HC1.out).1.cell 3 rfl, (HQ.out _ HC1.out).1.cell 4 rfl⟩)
  go_wp2_with fail
  obtain ⟨w1, hw1⟩ : ∃ w1, y1.alloc (.cells #[.slice b X.length cb, .slice b' Y.length cb', .int .i64 ep, .int .i64 nx, .slice va un vc] 29) = w1 := ⟨_, rfl⟩
  rw [hw1] at HA1 HC1 ⊢
  clear hw1 d0 d1 d2 d3 d4
  have hlo : W2.heap.size ≤ y1.heap.size := HA1.out.lob
  generalize y1.heap.size = bo at *
  refine (specSok_any a n ca X a' n' ca' Y ep nx ua un uc lo l w1 (HX.out _ HC1.out).1 (HX.out _ HC1.out).2.1 hn hn' HL.out.2.2.1 (HX.out _ HC1.out).2.2.1 HL.out.1 hul).mono ?_
  rintro e y2 ⟨⟨ok, rfl, hok⟩, hb2⟩
  have hdb : ok = decB (SOk X Y ep nx (l.map UE.u)) := decB_iff hok
  have HA2 : Hid (SAt y2 W2.heap.size bo b X.length cb X b' Y.length cb' Y ep nx va un vc l') := HA1.out.stays hb2
  have HC2 : Hid (Below W2.heap.size W2 y2) := HC1.out.trans (hb2.mono HC1.out.size)
  clear hb2 HA1 HC1
  cases ok with
  | false =>
    have hno : ¬ decB (SOk X Y ep nx (l.map UE.u)) = true := by rw [← hdb]; simp
    clear hok hdb
    have HRs : Hid (putA X Y ep nx (l.map UE.u) id off zs = ⟨X, nx, l.map UE.u, 1⟩) := if_neg (fun h => hno h.1)
    have HBw : Hid (Below w.heap.size w y2) := HB2.out.trans (HC2.out.mono HB2.out.size)
    obtain ⟨r0, r1, r2, r3, r4⟩ := (show _ ∧ _ ∧ _ ∧ _ ∧ _ from ⟨(HQ.out _ HC2.out).2.cell 0 rfl, (HQ.out _ HC2.out).2.cell 1 rfl, (HQ.out _ HC2.out).2.cell 2 rfl, (HQ.out _ HC2.out).2.cell 3 rfl, (HQ.out _ HC2.out).2.cell 4 rfl⟩)
    obtain ⟨f0, f1, f2, f3, f4⟩ := (show _ ∧ _ ∧ _ ∧ _ ∧ _ from ⟨(HQ.out _ HC2.out).2.frozen 0, (HQ.out _ HC2.out).2.frozen 1, (HQ.out _ HC2.out).2.frozen 2, (HQ.out _ HC2.out).2.frozen 3, (HQ.out _ HC2.out).2.frozen 4⟩)
    obtain ⟨o0, o1, o2, o3, o4⟩ := (show _ ∧ _ ∧ _ ∧ _ ∧ _ from ⟨HA2.out.box.cell 0 rfl, HA2.out.box.cell 1 rfl, HA2.out.box.cell 2 rfl, HA2.out.box.cell 3 rfl, HA2.out.box.cell 4 rfl⟩)
    have HSt : Hid (StoAt y2 W2.heap.size b X.length cb X b' Y.length cb' Y va un vc l') := HA2.out.sto
    clear HQ HX HC2 HA2
    go_wp2_with fail
    refine bodyPost_ret (v := .tuple #[.agg #[.slice b X.length cb, .slice b' Y.length cb', .int .i64 ep, .int .i64 nx, .slice va un vc], .int .i64 1]) (by simp [results, Tryz.f60, go_sem, r0, r1, r2, r3, r4]) rfl ?_
    refine ⟨?_, ?_⟩
    · rw [WAns, HRs.out]
      exact ⟨_, rfl, b, X.length, cb, b', Y.length, cb', va, un, vc, l', rfl, (((((HSt.out.setLow (by omega) _).setLow (by omega) _).setLow (by omega) _).setLow (by omega) _).setLow (by omega) _).low (by omega), HM.out⟩
    · exact ((((HBw.out.setCell (by dsimp only; omega) _).setCell (by dsimp only; omega) _).setCell (by dsimp only; omega) _).setCell (by dsimp only; omega) _).setCell (by dsimp only; omega) _
  | true =>
  have HSo : Hid (SOk X Y ep nx (l.map UE.u)) := hok.1 rfl
  have HDb : Hid (decB (SOk X Y ep nx (l.map UE.u)) = true) := hdb.symm
  clear hok hdb
  go_wp2_with fail
  refine (specId_any id y2 (by omega)).mono ?_
  rintro _ y2 ⟨rfl, rfl⟩
  cases hidB : idB id.data.toList with
  | false =>
    have hno : ¬ idB id.data.toList = true := by rw [hidB]; simp
    clear hidB
    have HRs : Hid (putA X Y ep nx (l.map UE.u) id off zs = ⟨X, nx, l.map UE.u, 1⟩) := if_neg (fun h => hno h.2.1)
    have HBw : Hid (Below w.heap.size w y2) := HB2.out.trans (HC2.out.mono HB2.out.size)
    obtain ⟨r0, r1, r2, r3, r4⟩ := (show _ ∧ _ ∧ _ ∧ _ ∧ _ from ⟨(HQ.out _ HC2.out).2.cell 0 rfl, (HQ.out _ HC2.out).2.cell 1 rfl, (HQ.out _ HC2.out).2.cell 2 rfl, (HQ.out _ HC2.out).2.cell 3 rfl, (HQ.out _ HC2.out).2.cell 4 rfl⟩)
    obtain ⟨f0, f1, f2, f3, f4⟩ := (show _ ∧ _ ∧ _ ∧ _ ∧ _ from ⟨(HQ.out _ HC2.out).2.frozen 0, (HQ.out _ HC2.out).2.frozen 1, (HQ.out _ HC2.out).2.frozen 2, (HQ.out _ HC2.out).2.frozen 3, (HQ.out _ HC2.out).2.frozen 4⟩)
    obtain ⟨o0, o1, o2, o3, o4⟩ := (show _ ∧ _ ∧ _ ∧ _ ∧ _ from ⟨HA2.out.box.cell 0 rfl, HA2.out.box.cell 1 rfl, HA2.out.box.cell 2 rfl, HA2.out.box.cell 3 rfl, HA2.out.box.cell 4 rfl⟩)
    have HSt : Hid (StoAt y2 W2.heap.size b X.length cb X b' Y.length cb' Y va un vc l') := HA2.out.sto
    clear HQ HX HC2 HA2
    go_wp2_with fail
    refine bodyPost_ret (v := .tuple #[.agg #[.slice b X.length cb, .slice b' Y.length cb', .int .i64 ep, .int .i64 nx, .slice va un vc], .int .i64 1]) (by simp [results, Tryz.f60, go_sem, r0, r1, r2, r3, r4]) rfl ?_
    refine ⟨?_, ?_⟩
    · rw [WAns, HRs.out]
      exact ⟨_, rfl, b, X.length, cb, b', Y.length, cb', va, un, vc, l', rfl, (((((HSt.out.setLow (by omega) _).setLow (by omega) _).setLow (by omega) _).setLow (by omega) _).setLow (by omega) _).low (by omega), HM.out⟩
    · exact ((((HBw.out.setCell (by dsimp only; omega) _).setCell (by dsimp only; omega) _).setCell (by dsimp only; omega) _).setCell (by dsimp only; omega) _).setCell (by dsimp only; omega) _
  | true =>
  have HId : Hid (idB id.data.toList = true) := hidB
  clear hidB
  go_wp2_with fail
  refine (l1In_any (dl : Int) 1 400 y2).mono ?_
  rintro _ y2 ⟨rfl, rfl⟩
  by_cases hlen : (1 : Int) ≤ (dl : Int) ∧ (dl : Int) ≤ 400
  case neg =>
    rw [decide_eq_false hlen]
    have HRs : Hid (putA X Y ep nx (l.map UE.u) id off zs = ⟨X, nx, l.map UE.u, 1⟩) := if_neg (fun h => hlen (by have := HL.out.2.2.2.2; have := h.2.2; omega))
    have HBw : Hid (Below w.heap.size w y2) := HB2.out.trans (HC2.out.mono HB2.out.size)
    obtain ⟨r0, r1, r2, r3, r4⟩ := (show _ ∧ _ ∧ _ ∧ _ ∧ _ from ⟨(HQ.out _ HC2.out).2.cell 0 rfl, (HQ.out _ HC2.out).2.cell 1 rfl, (HQ.out _ HC2.out).2.cell 2 rfl, (HQ.out _ HC2.out).2.cell 3 rfl, (HQ.out _ HC2.out).2.cell 4 rfl⟩)
    obtain ⟨f0, f1, f2, f3, f4⟩ := (show _ ∧ _ ∧ _ ∧ _ ∧ _ from ⟨(HQ.out _ HC2.out).2.frozen 0, (HQ.out _ HC2.out).2.frozen 1, (HQ.out _ HC2.out).2.frozen 2, (HQ.out _ HC2.out).2.frozen 3, (HQ.out _ HC2.out).2.frozen 4⟩)
    obtain ⟨o0, o1, o2, o3, o4⟩ := (show _ ∧ _ ∧ _ ∧ _ ∧ _ from ⟨HA2.out.box.cell 0 rfl, HA2.out.box.cell 1 rfl, HA2.out.box.cell 2 rfl, HA2.out.box.cell 3 rfl, HA2.out.box.cell 4 rfl⟩)
    have HSt : Hid (StoAt y2 W2.heap.size b X.length cb X b' Y.length cb' Y va un vc l') := HA2.out.sto
    clear HQ HX HC2 HA2
    go_wp2_with fail
    refine bodyPost_ret (v := .tuple #[.agg #[.slice b X.length cb, .slice b' Y.length cb', .int .i64 ep, .int .i64 nx, .slice va un vc], .int .i64 1]) (by simp [results, Tryz.f60, go_sem, r0, r1, r2, r3, r4]) rfl ?_
    refine ⟨?_, ?_⟩
    · rw [WAns, HRs.out]
      exact ⟨_, rfl, b, X.length, cb, b', Y.length, cb', va, un, vc, l', rfl, (((((HSt.out.setLow (by omega) _).setLow (by omega) _).setLow (by omega) _).setLow (by omega) _).setLow (by omega) _).low (by omega), HM.out⟩
    · exact ((((HBw.out.setCell (by dsimp only; omega) _).setCell (by dsimp only; omega) _).setCell (by dsimp only; omega) _).setCell (by dsimp only; omega) _).setCell (by dsimp only; omega) _
  rw [decide_eq_true hlen]
  have HLn : Hid (1 ≤ zs.length ∧ zs.length ≤ 400) := by show _ ∧ _; have := HL.out.2.2.2.2; omega
  obtain ⟨hen, hn0, hnX, hX200⟩ := HSo.out.nums
  have hfew : un ≤ 10 := by have := HSo.out.few; rw [List.length_map, ← HL.out.1] at this; exact this
  obtain ⟨d0, d1, d2, d3, d4⟩ := (show _ ∧ _ ∧ _ ∧ _ ∧ _ from ⟨(HQ.out _ HC2.out).1.cell 0 rfl, (HQ.out _ HC2.out).1.cell 1 rfl, (HQ.out _ HC2.out).1.cell 2 rfl, (HQ.out _ HC2.out).1.cell 3 rfl, (HQ.out _ HC2.out).1.cell 4 rfl⟩)
  go_wp2_with fail
  refine (specAtU_any ua un uc lo id l y2 (HX.out _ HC2.out).2.2.1 HL.out.1 (by omega)).mono ?_
  rintro _ y2 ⟨rfl, rfl⟩
  clear d0 d1 d2 d3 d4
  cases hat : atU (l.map UE.u) id with
  | none =>
    have hki : atI (l.map UE.u) id = -1 := by rw [atI, hat]
    rw [hki]
    have HRs : Hid (putA X Y ep nx (l.map UE.u) id off zs = ⟨X, nx, l.map UE.u, 2⟩) := by show _ = _; rw [putA, if_pos ⟨HDb.out, HId.out, HLn.out⟩, hat]
    have HBw : Hid (Below w.heap.size w y2) := HB2.out.trans (HC2.out.mono HB2.out.size)
    obtain ⟨r0, r1, r2, r3, r4⟩ := (show _ ∧ _ ∧ _ ∧ _ ∧ _ from ⟨(HQ.out _ HC2.out).2.cell 0 rfl, (HQ.out _ HC2.out).2.cell 1 rfl, (HQ.out _ HC2.out).2.cell 2 rfl, (HQ.out _ HC2.out).2.cell 3 rfl, (HQ.out _ HC2.out).2.cell 4 rfl⟩)
    obtain ⟨f0, f1, f2, f3, f4⟩ := (show _ ∧ _ ∧ _ ∧ _ ∧ _ from ⟨(HQ.out _ HC2.out).2.frozen 0, (HQ.out _ HC2.out).2.frozen 1, (HQ.out _ HC2.out).2.frozen 2, (HQ.out _ HC2.out).2.frozen 3, (HQ.out _ HC2.out).2.frozen 4⟩)
    obtain ⟨o0, o1, o2, o3, o4⟩ := (show _ ∧ _ ∧ _ ∧ _ ∧ _ from ⟨HA2.out.box.cell 0 rfl, HA2.out.box.cell 1 rfl, HA2.out.box.cell 2 rfl, HA2.out.box.cell 3 rfl, HA2.out.box.cell 4 rfl⟩)
    have HSt : Hid (StoAt y2 W2.heap.size b X.length cb X b' Y.length cb' Y va un vc l') := HA2.out.sto
    clear HQ HX HC2 HA2
    go_wp2_with fail
    refine bodyPost_ret (v := .tuple #[.agg #[.slice b X.length cb, .slice b' Y.length cb', .int .i64 ep, .int .i64 nx, .slice va un vc], .int .i64 2]) (by simp [results, Tryz.f60, go_sem, r0, r1, r2, r3, r4]) rfl ?_
    refine ⟨?_, ?_⟩
    · rw [WAns, HRs.out]
      exact ⟨_, rfl, b, X.length, cb, b', Y.length, cb', va, un, vc, l', rfl, (((((HSt.out.setLow (by omega) _).setLow (by omega) _).setLow (by omega) _).setLow (by omega) _).setLow (by omega) _).low (by omega), HM.out⟩
    · exact ((((HBw.out.setCell (by dsimp only; omega) _).setCell (by dsimp only; omega) _).setCell (by dsimp only; omega) _).setCell (by dsimp only; omega) _).setCell (by dsimp only; omega) _
  | some k =>
  have hki : atI (l.map UE.u) id = (k : Int) := by rw [atI, hat]
  have hkl : k < l.length := by simpa using (atU_is hat).1
  have hk0 : ¬ (k : Int) < 0 := by omega
  have hk1 : (0 : Int) ≤ (k : Int) := by omega
  have hku : (k : Int) < (un : Int) := by have := HL.out.1; omega
  rw [hki]
  have hguk : (l.map UE.u)[k]? = some (l[k]).u := by rw [List.getElem?_map, List.getElem?_eq_getElem hkl]; rfl
  obtain ⟨g, hg, g0, g1, g2, g3, _⟩ := (HX.out _ HC2.out).2.2.1.at HL.out.1 hkl
  have hul4 := (l[k]).u.zs.length
  have HUz : Hid ((l[k]).u.zs.length = (l[k]).n ∧ (l[k]).u.zs.length ≤ 4800) := ⟨((HX.out _ HC2.out).2.2.1.2.1 _ (List.getElem_mem hkl)).seg.1, (fold_small HSo.out.1 HSo.out.2.2.1).2 _ (List.mem_map_of_mem (List.getElem_mem hkl))⟩
  have HWt : Hid (0 ≤ (l[k]).u.want ∧ (l[k]).u.want ≤ 1000000000) := HSo.out.wants _ (List.mem_map_of_mem (List.getElem_mem hkl))
  have HPa : Hid (∀ v : WA, (if (l[k]).u.done = true ∨ off ≠ ((l[k]).u.zs.length : Int) ∨ (l[k]).u.want < off + (zs.length : Int) then (⟨X, nx, l.map UE.u, 4⟩ : WA) else if (X.length : Int) - nx < (pcs zs.length : Int) then ⟨X, nx, l.map UE.u, 5⟩ else wroteA X ep nx (l.map UE.u) (dataRs id off zs)) = v → putA X Y ep nx (l.map UE.u) id off zs = v) := fun v h => by
    rw [putA, if_pos ⟨HDb.out, HId.out, HLn.out⟩, hat]
    dsimp only
    rw [hguk]
    exact h
  have HAt : Hid (atU (l.map UE.u) id = some k ∧ (l.map UE.u)[k]? = some (l[k]).u) := ⟨hat, hguk⟩
  subst hg
  generalize l[k] = x at *
  clear hat hguk hul4
  obtain ⟨Z, hZ⟩ : ∃ Z, x.u.zs.length = Z := ⟨_, rfl⟩
  have hxn : x.n = Z := by have := HUz.out.1; omega
  have hZb : Z ≤ 4800 := by have := HUz.out.2; omega
  rw [hZ] at HPa
  have HZe : Hid (x.u.zs.length = Z) := hZ
  rw [hxn] at g2
  clear hxn hZ HUz
  obtain ⟨y3, hy3⟩ : ∃ y3, y2.alloc (.cells #[.string x.u.id, .int .i64 x.u.want, .slice x.a Z x.c, .bool x.u.done] 42) = y3 := ⟨_, rfl⟩
  have HE3 : Hid (y2.alloc (.cells #[.string x.u.id, .int .i64 x.u.want, .slice x.a Z x.c, .bool x.u.done] 42) = y3) := hy3
  have hb3 : Below y2.heap.size y2 y3 := by rw [← hy3]; exact (Below.refl _ _).alloc (Nat.le_refl _) _
  have hv3 : BoxN y3 y2.heap.size 42 [.string x.u.id, .int .i64 x.u.want, .slice x.a Z x.c, .bool x.u.done] := by rw [← hy3]; exact BoxN.new _ _ _
  have e4 := (HQ.out _ HC2.out).1
  have u1 := hv3.cell 1 rfl
  have u2 := hv3.cell 2 rfl
  have u3 := hv3.cell 3 rfl
  have HA3 : Hid (SAt y3 W2.heap.size bo b X.length cb X b' Y.length cb' Y ep nx va un vc l') := HA2.out.stays hb3
  have HC3 : Hid (Below W2.heap.size W2 y3) := HC2.out.trans (hb3.mono HC2.out.size)
  clear hb3 HA2 HC2
  have d4 := e4.cell 4 rfl
  clear e4 hy3 hv3
  go_upto_region 8 with fail
  rw [HE3.out]
  clear HE3 g0 g1 g2 g3 d4
  cases hdone : x.u.done with
  | true =>
    rw [hdone] at u3
    have HRs : Hid (putA X Y ep nx (l.map UE.u) id off zs = ⟨X, nx, l.map UE.u, 4⟩) := HPa.out _ (if_pos (.inl hdone))
    have HBw : Hid (Below w.heap.size w y3) := HB2.out.trans (HC3.out.mono HB2.out.size)
    obtain ⟨r0, r1, r2, r3, r4⟩ := (show _ ∧ _ ∧ _ ∧ _ ∧ _ from ⟨(HQ.out _ HC3.out).2.cell 0 rfl, (HQ.out _ HC3.out).2.cell 1 rfl, (HQ.out _ HC3.out).2.cell 2 rfl, (HQ.out _ HC3.out).2.cell 3 rfl, (HQ.out _ HC3.out).2.cell 4 rfl⟩)
    obtain ⟨f0, f1, f2, f3, f4⟩ := (show _ ∧ _ ∧ _ ∧ _ ∧ _ from ⟨(HQ.out _ HC3.out).2.frozen 0, (HQ.out _ HC3.out).2.frozen 1, (HQ.out _ HC3.out).2.frozen 2, (HQ.out _ HC3.out).2.frozen 3, (HQ.out _ HC3.out).2.frozen 4⟩)
    obtain ⟨o0, o1, o2, o3, o4⟩ := (show _ ∧ _ ∧ _ ∧ _ ∧ _ from ⟨HA3.out.box.cell 0 rfl, HA3.out.box.cell 1 rfl, HA3.out.box.cell 2 rfl, HA3.out.box.cell 3 rfl, HA3.out.box.cell 4 rfl⟩)
    have HSt : Hid (StoAt y3 W2.heap.size b X.length cb X b' Y.length cb' Y va un vc l') := HA3.out.sto
    clear HQ HX HC3 HA3
    go_wp2_with fail
    refine bodyPost_ret (v := .tuple #[.agg #[.slice b X.length cb, .slice b' Y.length cb', .int .i64 ep, .int .i64 nx, .slice va un vc], .int .i64 4]) (by simp [results, Tryz.f60, go_sem, r0, r1, r2, r3, r4]) rfl ?_
    refine ⟨?_, ?_⟩
    · rw [WAns, HRs.out]
      exact ⟨_, rfl, b, X.length, cb, b', Y.length, cb', va, un, vc, l', rfl, (((((HSt.out.setLow (by omega) _).setLow (by omega) _).setLow (by omega) _).setLow (by omega) _).setLow (by omega) _).low (by omega), HM.out⟩
    · exact ((((HBw.out.setCell (by dsimp only; omega) _).setCell (by dsimp only; omega) _).setCell (by dsimp only; omega) _).setCell (by dsimp only; omega) _).setCell (by dsimp only; omega) _
  | false =>
  rw [hdone] at u3
  by_cases hoff : off = (Z : Int)
  case neg =>
    have hoffb : (off != (Z : Int)) = true := by simpa using hoff
    have HRs : Hid (putA X Y ep nx (l.map UE.u) id off zs = ⟨X, nx, l.map UE.u, 4⟩) := HPa.out _ (if_pos (.inr (.inl hoff)))
    have HBw : Hid (Below w.heap.size w y3) := HB2.out.trans (HC3.out.mono HB2.out.size)
    obtain ⟨r0, r1, r2, r3, r4⟩ := (show _ ∧ _ ∧ _ ∧ _ ∧ _ from ⟨(HQ.out _ HC3.out).2.cell 0 rfl, (HQ.out _ HC3.out).2.cell 1 rfl, (HQ.out _ HC3.out).2.cell 2 rfl, (HQ.out _ HC3.out).2.cell 3 rfl, (HQ.out _ HC3.out).2.cell 4 rfl⟩)
    obtain ⟨f0, f1, f2, f3, f4⟩ := (show _ ∧ _ ∧ _ ∧ _ ∧ _ from ⟨(HQ.out _ HC3.out).2.frozen 0, (HQ.out _ HC3.out).2.frozen 1, (HQ.out _ HC3.out).2.frozen 2, (HQ.out _ HC3.out).2.frozen 3, (HQ.out _ HC3.out).2.frozen 4⟩)
    obtain ⟨o0, o1, o2, o3, o4⟩ := (show _ ∧ _ ∧ _ ∧ _ ∧ _ from ⟨HA3.out.box.cell 0 rfl, HA3.out.box.cell 1 rfl, HA3.out.box.cell 2 rfl, HA3.out.box.cell 3 rfl, HA3.out.box.cell 4 rfl⟩)
    have HSt : Hid (StoAt y3 W2.heap.size b X.length cb X b' Y.length cb' Y va un vc l') := HA3.out.sto
    clear HQ HX HC3 HA3
    go_wp2_with fail
    refine bodyPost_ret (v := .tuple #[.agg #[.slice b X.length cb, .slice b' Y.length cb', .int .i64 ep, .int .i64 nx, .slice va un vc], .int .i64 4]) (by simp [results, Tryz.f60, go_sem, r0, r1, r2, r3, r4]) rfl ?_
    refine ⟨?_, ?_⟩
    · rw [WAns, HRs.out]
      exact ⟨_, rfl, b, X.length, cb, b', Y.length, cb', va, un, vc, l', rfl, (((((HSt.out.setLow (by omega) _).setLow (by omega) _).setLow (by omega) _).setLow (by omega) _).setLow (by omega) _).low (by omega), HM.out⟩
    · exact ((((HBw.out.setCell (by dsimp only; omega) _).setCell (by dsimp only; omega) _).setCell (by dsimp only; omega) _).setCell (by dsimp only; omega) _).setCell (by dsimp only; omega) _
  subst hoff
  have hoffb : ((Z : Int) != (Z : Int)) = false := by simp
  by_cases hbig : x.u.want < (Z : Int) + (dl : Int)
  · have hbigd : decide (x.u.want < (Z : Int) + (dl : Int)) = true := by simpa using hbig
    have hbigz : x.u.want < (Z : Int) + (zs.length : Int) := by rw [HL.out.2.2.2.2]; exact hbig
    have HRs : Hid (putA X Y ep nx (l.map UE.u) id (Z : Int) zs = ⟨X, nx, l.map UE.u, 4⟩) := HPa.out _ (if_pos (.inr (.inr hbigz)))
    have HBw : Hid (Below w.heap.size w y3) := HB2.out.trans (HC3.out.mono HB2.out.size)
    obtain ⟨r0, r1, r2, r3, r4⟩ := (show _ ∧ _ ∧ _ ∧ _ ∧ _ from ⟨(HQ.out _ HC3.out).2.cell 0 rfl, (HQ.out _ HC3.out).2.cell 1 rfl, (HQ.out _ HC3.out).2.cell 2 rfl, (HQ.out _ HC3.out).2.cell 3 rfl, (HQ.out _ HC3.out).2.cell 4 rfl⟩)
    obtain ⟨f0, f1, f2, f3, f4⟩ := (show _ ∧ _ ∧ _ ∧ _ ∧ _ from ⟨(HQ.out _ HC3.out).2.frozen 0, (HQ.out _ HC3.out).2.frozen 1, (HQ.out _ HC3.out).2.frozen 2, (HQ.out _ HC3.out).2.frozen 3, (HQ.out _ HC3.out).2.frozen 4⟩)
    obtain ⟨o0, o1, o2, o3, o4⟩ := (show _ ∧ _ ∧ _ ∧ _ ∧ _ from ⟨HA3.out.box.cell 0 rfl, HA3.out.box.cell 1 rfl, HA3.out.box.cell 2 rfl, HA3.out.box.cell 3 rfl, HA3.out.box.cell 4 rfl⟩)
    have HSt : Hid (StoAt y3 W2.heap.size b X.length cb X b' Y.length cb' Y va un vc l') := HA3.out.sto
    clear HQ HX HC3 HA3
    go_wp2_with fail
    refine bodyPost_ret (v := .tuple #[.agg #[.slice b X.length cb, .slice b' Y.length cb', .int .i64 ep, .int .i64 nx, .slice va un vc], .int .i64 4]) (by simp [results, Tryz.f60, go_sem, r0, r1, r2, r3, r4]) rfl ?_
    refine ⟨?_, ?_⟩
    · rw [WAns, HRs.out]
      exact ⟨_, rfl, b, X.length, cb, b', Y.length, cb', va, un, vc, l', rfl, (((((HSt.out.setLow (by omega) _).setLow (by omega) _).setLow (by omega) _).setLow (by omega) _).setLow (by omega) _).low (by omega), HM.out⟩
    · exact ((((HBw.out.setCell (by dsimp only; omega) _).setCell (by dsimp only; omega) _).setCell (by dsimp only; omega) _).setCell (by dsimp only; omega) _).setCell (by dsimp only; omega) _
  have hbigd : decide (x.u.want < (Z : Int) + (dl : Int)) = false := by simpa using hbig
  have HBg : Hid ((Z : Int) + (zs.length : Int) ≤ x.u.want) := by show _ ≤ _; rw [HL.out.2.2.2.2]; omega
  have HPb : Hid (∀ v : WA, (if (X.length : Int) - nx < (pcs zs.length : Int) then ⟨X, nx, l.map UE.u, 5⟩ else wroteA X ep nx (l.map UE.u) (dataRs id (Z : Int) zs)) = v → putA X Y ep nx (l.map UE.u) id (Z : Int) zs = v) := fun v h => HPa.out v (by rw [if_neg (by rw [hdone]; have := HBg.out; simp; omega)]; exact h)
  have HDn : Hid (x.u.done = false) := hdone
  clear HPa hbig
  obtain ⟨d0, d1, d2, d3, d4⟩ := (show _ ∧ _ ∧ _ ∧ _ ∧ _ from ⟨(HQ.out _ HC3.out).1.cell 0 rfl, (HQ.out _ HC3.out).1.cell 1 rfl, (HQ.out _ HC3.out).1.cell 2 rfl, (HQ.out _ HC3.out).1.cell 3 rfl, (HQ.out _ HC3.out).1.cell 4 rfl⟩)
  go_wp2_with fail
  refine (specLeft_any a n ca a' n' ca' ep nx (some ⟨g, 0, none⟩) un uc y3 (by omega) (by omega)).mono ?_
  rintro _ y4 ⟨rfl, hb4⟩
  clear d0 d1 d2 d3 d4 u1 u2 u3
  have HA4 : Hid (SAt y4 W2.heap.size bo b X.length cb X b' Y.length cb' Y ep nx va un vc l') := HA3.out.stays hb4
  have HC4 : Hid (Below W2.heap.size W2 y4) := HC3.out.trans (hb4.mono HC3.out.size)
  clear hb4 HA3 HC3
  obtain ⟨Pn, hPn⟩ : ∃ Pn, pcs dl = Pn := ⟨_, rfl⟩
  have HPn : Hid (pcs zs.length = Pn) := by show _ = _; rw [HL.out.2.2.2.2]; exact hPn
  have hquo : ((dl : Int) + 24 - 1).tdiv 24 = (Pn : Int) := by rw [← hPn, pcs]; rw [Int.tdiv_eq_ediv_of_nonneg (by omega)]; omega
  have hquo2 : ((dl : Int) + 23).tdiv 24 = (Pn : Int) := by rw [← hPn, pcs]; rw [Int.tdiv_eq_ediv_of_nonneg (by omega)]; omega
  have hPb : Pn ≤ 17 := by rw [← hPn, pcs]; omega
  have Hw64 : Hid (wrap64 (Pn : Int) = (Pn : Int)) := by show _ = _; unfold wrap64; omega
  by_cases hroom : (n : Int) - nx < (Pn : Int)
  · have hroomw : (n : Int) - nx < wrap64 (Pn : Int) := by rw [Hw64.out]; exact hroom
    have hroomx : ¬ wrap64 (Pn : Int) ≤ (n : Int) - nx := by rw [Hw64.out]; omega
    have hrz : (X.length : Int) - nx < (pcs zs.length : Int) := by rw [HPn.out, HL.out.2.2.2.1]; exact hroom
    have HRs : Hid (putA X Y ep nx (l.map UE.u) id (Z : Int) zs = ⟨X, nx, l.map UE.u, 5⟩) := HPb.out _ (if_pos hrz)
    have HBw : Hid (Below w.heap.size w y4) := HB2.out.trans (HC4.out.mono HB2.out.size)
    obtain ⟨r0, r1, r2, r3, r4⟩ := (show _ ∧ _ ∧ _ ∧ _ ∧ _ from ⟨(HQ.out _ HC4.out).2.cell 0 rfl, (HQ.out _ HC4.out).2.cell 1 rfl, (HQ.out _ HC4.out).2.cell 2 rfl, (HQ.out _ HC4.out).2.cell 3 rfl, (HQ.out _ HC4.out).2.cell 4 rfl⟩)
    obtain ⟨f0, f1, f2, f3, f4⟩ := (show _ ∧ _ ∧ _ ∧ _ ∧ _ from ⟨(HQ.out _ HC4.out).2.frozen 0, (HQ.out _ HC4.out).2.frozen 1, (HQ.out _ HC4.out).2.frozen 2, (HQ.out _ HC4.out).2.frozen 3, (HQ.out _ HC4.out).2.frozen 4⟩)
    obtain ⟨o0, o1, o2, o3, o4⟩ := (show _ ∧ _ ∧ _ ∧ _ ∧ _ from ⟨HA4.out.box.cell 0 rfl, HA4.out.box.cell 1 rfl, HA4.out.box.cell 2 rfl, HA4.out.box.cell 3 rfl, HA4.out.box.cell 4 rfl⟩)
    have HSt : Hid (StoAt y4 W2.heap.size b X.length cb X b' Y.length cb' Y va un vc l') := HA4.out.sto
    clear HQ HX HC4 HA4
    go_wp2_with fail
    refine bodyPost_ret (v := .tuple #[.agg #[.slice b X.length cb, .slice b' Y.length cb', .int .i64 ep, .int .i64 nx, .slice va un vc], .int .i64 5]) (by simp [results, Tryz.f60, go_sem, r0, r1, r2, r3, r4]) rfl ?_
    refine ⟨?_, ?_⟩
    · rw [WAns, HRs.out]
      exact ⟨_, rfl, b, X.length, cb, b', Y.length, cb', va, un, vc, l', rfl, (((((HSt.out.setLow (by omega) _).setLow (by omega) _).setLow (by omega) _).setLow (by omega) _).setLow (by omega) _).low (by omega), HM.out⟩
    · exact ((((HBw.out.setCell (by dsimp only; omega) _).setCell (by dsimp only; omega) _).setCell (by dsimp only; omega) _).setCell (by dsimp only; omega) _).setCell (by dsimp only; omega) _
  have hroomw : ¬ (n : Int) - nx < wrap64 (Pn : Int) := by rw [Hw64.out]; exact hroom
  have hroomx : wrap64 (Pn : Int) ≤ (n : Int) - nx := by rw [Hw64.out]; omega
  go_wp2_with fail
  obtain ⟨M, hM⟩ := Int.eq_ofNat_of_zero_le hn0
  obtain ⟨E, hE⟩ := Int.eq_ofNat_of_zero_le hen.1
  subst hM hE
  have hdl1 : 1 ≤ dl ∧ dl ≤ 400 := by omega
  obtain ⟨db, do_, hda⟩ : ∃ db do_, da = some ⟨db, do_, none⟩ := by
    rcases (HX.out _ HC4.out).2.2.2.2.2 with h | ⟨db, do_, h, _⟩
    · omega
    · exact ⟨db, do_, h⟩
  subst hda
  have hPX : M + Pn ≤ X.length := by have := HL.out.2.2.2.1; omega
  have HP0 : Hid (putU (l.map UE.u) k x.u zs 0 = l.map UE.u) := putU_zero HAt.out.2
  clear hquo hquo2 hroomw hroomx
  go_loopw [13] (fun i wr => ∃ (j F : Nat) (J : Int) (v1 : Option Addr) (v2 v3 : Nat) (lj : List UE), j ≤ Pn ∧ i = .int .i64 (F : Int) ∧ F ≤ dl + 24 ∧ Hid (F = 24 * j) ∧ Hid (J = ((M + j : Nat) : Int)) ∧ Hid (BoxN wr bo 29 [.slice b X.length cb, .slice b' Y.length cb', .int .i64 (E : Int), .int .i64 J, .slice v1 v2 v3]) ∧ Hid (StoAt wr W2.heap.size b X.length cb (wroteX X (E : Int) M ((dataRs id (Z : Int) zs).take j)) b' Y.length cb' Y v1 v2 v3 lj) ∧ Hid (lj.map UE.u = putU (l.map UE.u) k x.u zs j) ∧ Hid (Below W2.heap.size W2 wr)) (fun i _ => dl + 24 - (intOf i).toNat)
  case atStart => exact ⟨0, 0, (M : Int), va, un, vc, l', Nat.zero_le _, rfl, by omega, rfl, rfl, HA4.out.box, HA4.out.sto, by show _ = _; rw [HP0.out]; exact HM.out, HC4⟩
  case round =>
    clear HA4 HC4
    obtain ⟨j, FF, J, v1, v2, v3, lj, hj, rfl, hFd, HF, HJ, HBx, HSx, HMj, HWx⟩ := hrel
    by_cases hlt : FF < dl
    case neg =>
      have hnl : ¬ (FF : Int) < (dl : Int) := by omega
      have hjP : Hid (j = Pn) := by show _ = _; have h1 := HF.out; have h2 := hPn; unfold pcs at h2; omega
      have HRs : Hid (putA X Y (E : Int) (M : Int) (l.map UE.u) id (Z : Int) zs = ⟨wroteX X (E : Int) M ((dataRs id (Z : Int) zs).take j), J, putU (l.map UE.u) k x.u zs j, 0⟩) := by
        show _ = _
        rw [HPb.out _ rfl, if_neg (by rw [HPn.out, HL.out.2.2.2.1]; omega), hjP.out, wroteA]
        have e1 : (dataRs id (Z : Int) zs).take Pn = dataRs id (Z : Int) zs := List.take_of_length_le (by rw [dataRs_len, HPn.out]; exact Nat.le_refl _)
        have e2 : (dataRs id (Z : Int) zs).foldlM oneU (l.map UE.u) = some (putU (l.map UE.u) k x.u zs Pn) := by
          have h := put_fold HAt.out.1 HAt.out.2 HDn.out (by rw [HZe.out]) HBg.out Pn (by rw [HPn.out]; exact Nat.le_refl _)
          rw [← dataRs_take _ _ _ (by rw [HPn.out]; exact Nat.le_refl _), e1] at h
          exact h
        rw [e1, e2, dataRs_len, HPn.out, HJ.out, hjP.out]
        rfl
      have HBw : Hid (Below w.heap.size w wr) := HB2.out.trans (HWx.out.mono HB2.out.size)
      obtain ⟨r0, r1, r2, r3, r4⟩ := (show _ ∧ _ ∧ _ ∧ _ ∧ _ from ⟨(HQ.out _ HWx.out).2.cell 0 rfl, (HQ.out _ HWx.out).2.cell 1 rfl, (HQ.out _ HWx.out).2.cell 2 rfl, (HQ.out _ HWx.out).2.cell 3 rfl, (HQ.out _ HWx.out).2.cell 4 rfl⟩)
      obtain ⟨f0, f1, f2, f3, f4⟩ := (show _ ∧ _ ∧ _ ∧ _ ∧ _ from ⟨(HQ.out _ HWx.out).2.frozen 0, (HQ.out _ HWx.out).2.frozen 1, (HQ.out _ HWx.out).2.frozen 2, (HQ.out _ HWx.out).2.frozen 3, (HQ.out _ HWx.out).2.frozen 4⟩)
      obtain ⟨o0, o1, o2, o3, o4⟩ := (show _ ∧ _ ∧ _ ∧ _ ∧ _ from ⟨HBx.out.cell 0 rfl, HBx.out.cell 1 rfl, HBx.out.cell 2 rfl, HBx.out.cell 3 rfl, HBx.out.cell 4 rfl⟩)
      clear HQ HX HBx HWx
      go_wp2_with fail
      refine bodyPost_ret (v := .tuple #[.agg #[.slice b X.length cb, .slice b' Y.length cb', .int .i64 (E : Int), .int .i64 J, .slice v1 v2 v3], .int .i64 0]) (by simp [results, Tryz.f60, go_sem, r0, r1, r2, r3, r4]) rfl ?_
      refine ⟨?_, ?_⟩
      · rw [WAns, HRs.out]
        exact ⟨_, rfl, b, X.length, cb, b', Y.length, cb', v1, v2, v3, lj, rfl, (((((HSx.out.setLow (by omega) _).setLow (by omega) _).setLow (by omega) _).setLow (by omega) _).setLow (by omega) _).low (by omega), HMj.out⟩
      · exact ((((HBw.out.setCell (by dsimp only; omega) _).setCell (by dsimp only; omega) _).setCell (by dsimp only; omega) _).setCell (by dsimp only; omega) _).setCell (by dsimp only; omega) _
    have hFi : (FF : Int) < (dl : Int) := by omega
    have hF0 : (0 : Int) ≤ (FF : Int) := by omega
    have hcF : ¬ dc = FF := by omega
    obtain ⟨j0, ji, jz0, jz1, jz2⟩ := info_parts Tryz.info5
    by_cases hto : (dl : Int) < (FF : Int) + 24
    · have hdci : (dl : Int) ≤ (dc : Int) := by omega
      have hmF : FF + (dl - FF) ≤ dl := by omega
      have HPz : Hid ((zs.drop FF).take (dl - FF) = (zs.drop (24 * j)).take 24) := by
        show _ = _
        rw [HF.out]
        rw [List.take_of_length_le (by rw [List.length_drop, HL.out.2.2.2.2]; omega), List.take_of_length_le (by rw [List.length_drop, HL.out.2.2.2.2]; have := HF.out; omega)]
      have hb5 := (Below.refl wr.heap.size wr).alloc (Nat.le_refl _) (.cells #[] 5)
      have HR5 : Hid ((wr.alloc (.cells #[] 5)).ownsRow wr.heap.size 5 1 (.slice (some ⟨wr.heap.size, 0, none⟩) 0 0) 0 []) := World.ownsRow_lit wr #[] 0 (Nat.le_refl _) (Nat.zero_le _) rfl
      have hsp := seg_part (HX.out _ HWx.out).2.2.2 FF (dl - FF) hmF
      have HSr : Hid (Src Tryz.prog 1 22 (.slice (some ⟨db, do_ + FF, none⟩) (dl - FF) (dc - FF)) (dl - FF) (((zs.drop FF).take (dl - FF)).map (Value.int .u8)) (wr.alloc (.cells #[] 5))) := (hsp.below hb5).src
      have HZr : Hid (∀ y ∈ (zs.drop FF).take (dl - FF), 0 ≤ y ∧ y ≤ 255) := hsp.2.1
      have HL5 : Hid (wr.heap.size ≤ (wr.alloc (.cells #[] 5)).heap.size) := hb5.size
      clear hsp
      go_upto_region 18 with fail
      go_wp2_with (at_builtin; refine wpList_append_loc rfl _ _ 22 22 rfl wr.heap.size 5 j0 (.int .u8 0) 1 1 Tryz.underlying22 ji jz0 jz1 jz2 rfl (by decide) wr.heap.size 0 0 [] rfl HR5.out (.slice (some ⟨db, do_ + FF, none⟩) (dl - FF) (dc - FF)) (dl - FF) (((zs.drop FF).take (dl - FF)).map (Value.int .u8)) rfl HSr.out (by unfold maxLen; omega) (by omega) HL5.out ?_; intro gA C x6 hown6 hg6 _; refine Hid.out ?_)
      refine hidden ?_
      obtain ⟨AA, hAe⟩ : ∃ AA : Option Addr, some ⟨gA, 0, none⟩ = AA := ⟨_, rfl⟩
      rw [hAe] at hown6 ⊢
      have hown6' : x6.ownsRow wr.heap.size 5 1 (.slice AA (dl - FF) C) (dl - FF) (((zs.drop (24 * j)).take 24).map (Value.int .u8)) := by
        have h := hown6
        rw [Nat.zero_add, HPz.out] at h
        simpa using h
      have HO6 : Hid (Owns x6 wr.heap.size AA (dl - FF) C ((zs.drop (24 * j)).take 24)) := ⟨hown6', by rw [← HPz.out]; exact HZr.out⟩
      have hb6 : Below wr.heap.size wr x6 := hb5.grown hg6 (by simp) (fun q hq => by injection hq with hq; omega)
      have HB6 : Hid (BoxN x6 bo 29 [.slice b X.length cb, .slice b' Y.length cb', .int .i64 (E : Int), .int .i64 J, .slice v1 v2 v3]) := HBx.out.stays hb6
      have HS6 : Hid (StoAt x6 W2.heap.size b X.length cb (wroteX X (E : Int) M ((dataRs id (Z : Int) zs).take j)) b' Y.length cb' Y v1 v2 v3 lj) := HSx.out.stays hb6
      have HW6 : Hid (Below W2.heap.size W2 x6) := HWx.out.trans (hb6.mono HWx.out.size)
      clear hown6 hown6' hg6 hb5 hb6 hAe HR5 HSr HZr HL5 HBx HSx HWx
      have hjP : j < Pn := by have h1 := HF.out; have h2 := hPn; unfold pcs at h2; omega
      have HXl : Hid ((wroteX X (E : Int) M ((dataRs id (Z : Int) zs).take j)).length = X.length) := wroteX_len _ _ _ _
      have HNx : Hid (wroteX X (E : Int) M ((dataRs id (Z : Int) zs).take (j + 1)) = (wroteX X (E : Int) M ((dataRs id (Z : Int) zs).take j)).set (M + j) (txU (sumB (recB E (M + j) 2 id (Z + FF) ((zs.drop (24 * j)).take 24))))) := by
        show _ = _
        rw [wroteX_next (dataRs_at id (Z : Int) zs (by rw [HPn.out]; exact hjP)), HF.out]
        rfl
      have HOne : Hid (oneU (lj.map UE.u) ⟨(E : Int), ((M + j : Nat) : Int), ((2 : Nat) : Int), id, ((Z + FF : Nat) : Int), (zs.drop (24 * j)).take 24⟩ = some (putU (l.map UE.u) k x.u zs (j + 1))) := by
        show _ = _
        rw [HMj.out, ← putU_step HAt.out.1 HAt.out.2 HDn.out (by rw [HZe.out]) HBg.out j (by rw [HPn.out]; exact hjP), HF.out]
        rfl
      have hzj : ∀ e ∈ lj, e.n ≤ 1099511627776 := fun e he => by
        have h1 := (HS6.out.ups.2.1 e he).seg.1
        have h2 : e.u ∈ putU (l.map UE.u) k x.u zs j := by rw [← HMj.out]; exact List.mem_map_of_mem he
        rcases List.mem_or_eq_of_mem_set h2 with h3 | h3
        · have := (fold_small HSo.out.1 HSo.out.2.2.1).2 _ h3
          omega
        · rw [h3] at h1
          have h4 := HZe.out
          have h5 := HL.out.2.2.2.2
          simp only [List.length_append, List.length_take] at h1
          omega
      have hv2 : v2 ≤ 10 := by
        have h1 := HS6.out.len
        have h2 := congrArg List.length HMj.out
        rw [List.length_map, putU, List.length_set] at h2
        have := HSo.out.few
        omega
      have hi8 : id.size ≤ 255 := by
        have h := HId.out
        simp only [idB, Bool.and_eq_true, decide_eq_true_eq, Array.length_toList] at h
        have h8 : id.data.size = id.size := rfl
        omega
      have HWr : Hid (Calls Tryz.prog 89 #[.pointer (some ⟨bo, 0, none⟩), .agg #[.int .i64 0, .int .i64 0, .int .i64 2, .string id, .int .i64 ((Z : Int) + (FF : Int)), .slice AA (dl - FF) C]] x6 fun e w' => e = .returned (.tuple #[]) ∧ (∃ ua' un' uc' l2, BoxN w' bo 29 [.slice b X.length cb, .slice b' Y.length cb', .int .i64 (E : Int), .int .i64 (((M + j : Nat) : Int) + 1), .slice ua' un' uc'] ∧ StoAt w' W2.heap.size b X.length cb (wroteX X (E : Int) M ((dataRs id (Z : Int) zs).take (j + 1))) b' Y.length cb' Y ua' un' uc' l2 ∧ l2.map UE.u = putU (l.map UE.u) k x.u zs (j + 1)) ∧ Below W2.heap.size x6 w') := by
        have e1 : (Z : Int) + (FF : Int) = ((Z + FF : Nat) : Int) := by omega
        have hbx : BoxN x6 bo 29 [.slice b (wroteX X (E : Int) M ((dataRs id (Z : Int) zs).take j)).length cb, .slice b' Y.length cb', .int .i64 (E : Int), .int .i64 ((M + j : Nat) : Int), .slice v1 v2 v3] := by rw [HXl.out, ← HJ.out]; exact HB6.out
        have hst : StoAt x6 W2.heap.size b (wroteX X (E : Int) M ((dataRs id (Z : Int) zs).take j)).length cb (wroteX X (E : Int) M ((dataRs id (Z : Int) zs).take j)) b' Y.length cb' Y v1 v2 v3 lj := by rw [HXl.out]; exact HS6.out
        have h := specWrite_any W2.heap.size bo b cb (wroteX X (E : Int) M ((dataRs id (Z : Int) zs).take j)) b' Y.length cb' Y E (M + j) v1 v2 v3 lj 0 0 2 id (Z + FF) AA (dl - FF) C ((zs.drop (24 * j)).take 24) (putU (l.map UE.u) k x.u zs (j + 1)) x6 hbx hst hlo wr.heap.size HO6.out (by rw [HXl.out]; omega) (by rw [HXl.out]; omega) (by omega) hzj hi8 (by omega) (by omega) (by omega) (by omega) HOne.out
        rw [HXl.out, ← HNx.out] at h
        rw [e1]
        exact h
      go_wp2_with fail
      refine HWr.out.mono ?_
      rintro _ x7 ⟨rfl, ⟨ua', un', uc', l2, hq7, hs7, hm7⟩, hb7⟩
      have HB7 : Hid (BoxN x7 bo 29 [.slice b X.length cb, .slice b' Y.length cb', .int .i64 (E : Int), .int .i64 (((M + j : Nat) : Int) + 1), .slice ua' un' uc']) := hq7
      have HS7 : Hid (StoAt x7 W2.heap.size b X.length cb (wroteX X (E : Int) M ((dataRs id (Z : Int) zs).take (j + 1))) b' Y.length cb' Y ua' un' uc' l2) := hs7
      have HM7 : Hid (l2.map UE.u = putU (l.map UE.u) k x.u zs (j + 1)) := hm7
      have HW7 : Hid (Below W2.heap.size W2 x7) := HW6.out.trans hb7
      have HJ7 : Hid (((M + j : Nat) : Int) + 1 = ((M + (j + 1) : Nat) : Int)) := by show _ = _; omega
      have HF7 : Hid (FF + 24 = 24 * (j + 1)) := by show _ = _; have := HF.out; omega
      clear hq7 hs7 hm7 hb7 HWr HB6 HS6 HW6 HO6 HOne
      go_wp2_with fail
      go_roundw
      case rel => exact ⟨j + 1, FF + 24, ((M + j : Nat) : Int) + 1, ua', un', uc', l2, by omega, by go_num, by omega, HF7, HJ7, HB7, HS7, HM7, HW7⟩
      case measure => simp [intOf]; omega
    · obtain ⟨EE, hEe⟩ : ∃ EE : Nat, EE = FF + 24 := ⟨_, rfl⟩
      have HE24 : Hid (EE - FF = 24) := by show _ = _; omega
      have HEi : Hid ((FF : Int) + 24 = (EE : Int)) := by show _ = _; omega
      have hdci : (EE : Int) ≤ (dc : Int) := by omega
      have hFE : (FF : Int) ≤ (EE : Int) := by omega
      have hE1 : EE < FF + 25 := by omega
      have hE2 : EE ≤ dl := by omega
      have hmF : FF + (EE - FF) ≤ dl := by omega
      clear hEe
      have HPz : Hid ((zs.drop FF).take (EE - FF) = (zs.drop (24 * j)).take 24) := by
        show _ = _
        rw [HE24.out, HF.out]
      have hb5 := (Below.refl wr.heap.size wr).alloc (Nat.le_refl _) (.cells #[] 5)
      have HR5 : Hid ((wr.alloc (.cells #[] 5)).ownsRow wr.heap.size 5 1 (.slice (some ⟨wr.heap.size, 0, none⟩) 0 0) 0 []) := World.ownsRow_lit wr #[] 0 (Nat.le_refl _) (Nat.zero_le _) rfl
      have hsp := seg_part (HX.out _ HWx.out).2.2.2 FF (EE - FF) hmF
      have HSr : Hid (Src Tryz.prog 1 22 (.slice (some ⟨db, do_ + FF, none⟩) (EE - FF) (dc - FF)) (EE - FF) (((zs.drop FF).take (EE - FF)).map (Value.int .u8)) (wr.alloc (.cells #[] 5))) := (hsp.below hb5).src
      have HZr : Hid (∀ y ∈ (zs.drop FF).take (EE - FF), 0 ≤ y ∧ y ≤ 255) := hsp.2.1
      have HL5 : Hid (wr.heap.size ≤ (wr.alloc (.cells #[] 5)).heap.size) := hb5.size
      clear hsp
      go_upto_region 18 with fail
      rw [HEi.out]
      go_wp2_with (at_builtin; refine wpList_append_loc rfl _ _ 22 22 rfl wr.heap.size 5 j0 (.int .u8 0) 1 1 Tryz.underlying22 ji jz0 jz1 jz2 rfl (by decide) wr.heap.size 0 0 [] rfl HR5.out (.slice (some ⟨db, do_ + FF, none⟩) (EE - FF) (dc - FF)) (EE - FF) (((zs.drop FF).take (EE - FF)).map (Value.int .u8)) rfl HSr.out (by unfold maxLen; omega) (by omega) HL5.out ?_; intro gA C x6 hown6 hg6 _; refine Hid.out ?_)
      refine hidden ?_
      obtain ⟨AA, hAe⟩ : ∃ AA : Option Addr, some ⟨gA, 0, none⟩ = AA := ⟨_, rfl⟩
      rw [hAe] at hown6 ⊢
      have hown6' : x6.ownsRow wr.heap.size 5 1 (.slice AA (EE - FF) C) (EE - FF) (((zs.drop (24 * j)).take 24).map (Value.int .u8)) := by
        have h := hown6
        rw [Nat.zero_add, HPz.out] at h
        simpa using h
      have HO6 : Hid (Owns x6 wr.heap.size AA (EE - FF) C ((zs.drop (24 * j)).take 24)) := ⟨hown6', by rw [← HPz.out]; exact HZr.out⟩
      have hb6 : Below wr.heap.size wr x6 := hb5.grown hg6 (by simp) (fun q hq => by injection hq with hq; omega)
      have HB6 : Hid (BoxN x6 bo 29 [.slice b X.length cb, .slice b' Y.length cb', .int .i64 (E : Int), .int .i64 J, .slice v1 v2 v3]) := HBx.out.stays hb6
      have HS6 : Hid (StoAt x6 W2.heap.size b X.length cb (wroteX X (E : Int) M ((dataRs id (Z : Int) zs).take j)) b' Y.length cb' Y v1 v2 v3 lj) := HSx.out.stays hb6
      have HW6 : Hid (Below W2.heap.size W2 x6) := HWx.out.trans (hb6.mono HWx.out.size)
      clear hown6 hown6' hg6 hb5 hb6 hAe HR5 HSr HZr HL5 HBx HSx HWx
      have hjP : j < Pn := by have h1 := HF.out; have h2 := hPn; unfold pcs at h2; omega
      have HXl : Hid ((wroteX X (E : Int) M ((dataRs id (Z : Int) zs).take j)).length = X.length) := wroteX_len _ _ _ _
      have HNx : Hid (wroteX X (E : Int) M ((dataRs id (Z : Int) zs).take (j + 1)) = (wroteX X (E : Int) M ((dataRs id (Z : Int) zs).take j)).set (M + j) (txU (sumB (recB E (M + j) 2 id (Z + FF) ((zs.drop (24 * j)).take 24))))) := by
        show _ = _
        rw [wroteX_next (dataRs_at id (Z : Int) zs (by rw [HPn.out]; exact hjP)), HF.out]
        rfl
      have HOne : Hid (oneU (lj.map UE.u) ⟨(E : Int), ((M + j : Nat) : Int), ((2 : Nat) : Int), id, ((Z + FF : Nat) : Int), (zs.drop (24 * j)).take 24⟩ = some (putU (l.map UE.u) k x.u zs (j + 1))) := by
        show _ = _
        rw [HMj.out, ← putU_step HAt.out.1 HAt.out.2 HDn.out (by rw [HZe.out]) HBg.out j (by rw [HPn.out]; exact hjP), HF.out]
        rfl
      have hzj : ∀ e ∈ lj, e.n ≤ 1099511627776 := fun e he => by
        have h1 := (HS6.out.ups.2.1 e he).seg.1
        have h2 : e.u ∈ putU (l.map UE.u) k x.u zs j := by rw [← HMj.out]; exact List.mem_map_of_mem he
        rcases List.mem_or_eq_of_mem_set h2 with h3 | h3
        · have := (fold_small HSo.out.1 HSo.out.2.2.1).2 _ h3
          omega
        · rw [h3] at h1
          have h4 := HZe.out
          have h5 := HL.out.2.2.2.2
          simp only [List.length_append, List.length_take] at h1
          omega
      have hv2 : v2 ≤ 10 := by
        have h1 := HS6.out.len
        have h2 := congrArg List.length HMj.out
        rw [List.length_map, putU, List.length_set] at h2
        have := HSo.out.few
        omega
      have hi8 : id.size ≤ 255 := by
        have h := HId.out
        simp only [idB, Bool.and_eq_true, decide_eq_true_eq, Array.length_toList] at h
        have h8 : id.data.size = id.size := rfl
        omega
      have HWr : Hid (Calls Tryz.prog 89 #[.pointer (some ⟨bo, 0, none⟩), .agg #[.int .i64 0, .int .i64 0, .int .i64 2, .string id, .int .i64 ((Z : Int) + (FF : Int)), .slice AA (EE - FF) C]] x6 fun e w' => e = .returned (.tuple #[]) ∧ (∃ ua' un' uc' l2, BoxN w' bo 29 [.slice b X.length cb, .slice b' Y.length cb', .int .i64 (E : Int), .int .i64 (((M + j : Nat) : Int) + 1), .slice ua' un' uc'] ∧ StoAt w' W2.heap.size b X.length cb (wroteX X (E : Int) M ((dataRs id (Z : Int) zs).take (j + 1))) b' Y.length cb' Y ua' un' uc' l2 ∧ l2.map UE.u = putU (l.map UE.u) k x.u zs (j + 1)) ∧ Below W2.heap.size x6 w') := by
        have e1 : (Z : Int) + (FF : Int) = ((Z + FF : Nat) : Int) := by omega
        have hbx : BoxN x6 bo 29 [.slice b (wroteX X (E : Int) M ((dataRs id (Z : Int) zs).take j)).length cb, .slice b' Y.length cb', .int .i64 (E : Int), .int .i64 ((M + j : Nat) : Int), .slice v1 v2 v3] := by rw [HXl.out, ← HJ.out]; exact HB6.out
        have hst : StoAt x6 W2.heap.size b (wroteX X (E : Int) M ((dataRs id (Z : Int) zs).take j)).length cb (wroteX X (E : Int) M ((dataRs id (Z : Int) zs).take j)) b' Y.length cb' Y v1 v2 v3 lj := by rw [HXl.out]; exact HS6.out
        have h := specWrite_any W2.heap.size bo b cb (wroteX X (E : Int) M ((dataRs id (Z : Int) zs).take j)) b' Y.length cb' Y E (M + j) v1 v2 v3 lj 0 0 2 id (Z + FF) AA (EE - FF) C ((zs.drop (24 * j)).take 24) (putU (l.map UE.u) k x.u zs (j + 1)) x6 hbx hst hlo wr.heap.size HO6.out (by rw [HXl.out]; omega) (by rw [HXl.out]; omega) (by omega) hzj hi8 (by omega) (by omega) (by omega) (by omega) HOne.out
        rw [HXl.out, ← HNx.out] at h
        rw [e1]
        exact h
      go_wp2_with fail
      refine HWr.out.mono ?_
      rintro _ x7 ⟨rfl, ⟨ua', un', uc', l2, hq7, hs7, hm7⟩, hb7⟩
      have HB7 : Hid (BoxN x7 bo 29 [.slice b X.length cb, .slice b' Y.length cb', .int .i64 (E : Int), .int .i64 (((M + j : Nat) : Int) + 1), .slice ua' un' uc']) := hq7
      have HS7 : Hid (StoAt x7 W2.heap.size b X.length cb (wroteX X (E : Int) M ((dataRs id (Z : Int) zs).take (j + 1))) b' Y.length cb' Y ua' un' uc' l2) := hs7
      have HM7 : Hid (l2.map UE.u = putU (l.map UE.u) k x.u zs (j + 1)) := hm7
      have HW7 : Hid (Below W2.heap.size W2 x7) := HW6.out.trans hb7
      have HJ7 : Hid (((M + j : Nat) : Int) + 1 = ((M + (j + 1) : Nat) : Int)) := by show _ = _; omega
      have HF7 : Hid (FF + 24 = 24 * (j + 1)) := by show _ = _; have := HF.out; omega
      clear hq7 hs7 hm7 hb7 HWr HB6 HS6 HW6 HO6 HOne
      go_wp2_with fail
      go_roundw
      case rel => exact ⟨j + 1, FF + 24, ((M + j : Nat) : Int) + 1, ua', un', uc', l2, by omega, by go_num, by omega, HF7, HJ7, HB7, HS7, HM7, HW7⟩
      case measure => simp [intOf]; omega

end Go.Proofs.YtiigdcpjelbdjaaGreatDoor

namespace Go.Proofs.YtiigdcpjelbdjaaGreatDoor
open Go.RowKit
set_option linter.unusedVariables false

set_option maxRecDepth 10000 in
set_option maxHeartbeats 6400000 in
theorem specDone_any (a : Option Addr) (n ca : Nat) (X : List ByteArray) (a' : Option Addr) (n' ca' : Nat) (Y : List ByteArray) (ep nx : Int) (ua : Option Addr) (un uc lo : Nat) (l : List UE) (id : ByteArray) (sum : Int) (w : World) (h1 : Strs w a n X) (h2 : Strs w a' n' Y) (hn : n ≤ 1048576) (hn' : n' ≤ 1048576) (hzx : ∀ x ∈ X, x.size ≤ 1048576) (hu : UpRow w lo (.slice ua un uc) l) (hun : un = l.length) (hul : un ≤ 1048576) (hz : ∀ e ∈ l, e.n ≤ 1099511627776) (hid : id.size ≤ maxLen) :
    Calls Tryz.prog 62 #[.agg #[.slice a n ca, .slice a' n' ca', .int .i64 ep, .int .i64 nx, .slice ua un uc], .string id, .int .i64 sum] w fun e w' => WAns w.heap.size Y ep (doneA X Y ep nx (l.map UE.u) id sum) e w' ∧ Below w.heap.size w w' := by
  have hmm : maxLen < 9223372036854775808 := by decide
  obtain ⟨W2, hW2⟩ : ∃ W2, (w.alloc (.cells #[.slice a n ca, .slice a' n' ca', .int .i64 ep, .int .i64 nx, .slice ua un uc] 29)).alloc (.cells #[.slice none 0 0, .slice none 0 0, .int .i64 0, .int .i64 0, .slice none 0 0] 29) = W2 := ⟨_, rfl⟩
  have HE : Hid ((w.alloc (.cells #[.slice a n ca, .slice a' n' ca', .int .i64 ep, .int .i64 nx, .slice ua un uc] 29)).alloc (.cells #[.slice none 0 0, .slice none 0 0, .int .i64 0, .int .i64 0, .slice none 0 0] 29) = W2) := hW2
  have HB2 : Hid (Below w.heap.size w W2) := by show Below _ _ _; rw [← hW2]; exact ((Below.refl _ _).alloc (Nat.le_refl _) _).alloc (by simp) _
  have q1 : BoxN W2 w.heap.size 29 [.slice a n ca, .slice a' n' ca', .int .i64 ep, .int .i64 nx, .slice ua un uc] := by rw [← hW2]; exact (BoxN.new _ _ _).alloc _
  have q2 : BoxN W2 (w.heap.size + 1) 29 [.slice none 0 0, .slice none 0 0, .int .i64 0, .int .i64 0, .slice none 0 0] := by
    rw [← hW2]
    have := BoxN.new (w.alloc (.cells #[.slice a n ca, .slice a' n' ca', .int .i64 ep, .int .i64 nx, .slice ua un uc] 29)) 29 [.slice none 0 0, .slice none 0 0, .int .i64 0, .int .i64 0, .slice none 0 0]
    rwa [World.size_alloc] at this
  have HQ : Hid (∀ W, Below W2.heap.size W2 W → BoxN W w.heap.size 29 [.slice a n ca, .slice a' n' ca', .int .i64 ep, .int .i64 nx, .slice ua un uc] ∧ BoxN W (w.heap.size + 1) 29 [.slice none 0 0, .slice none 0 0, .int .i64 0, .int .i64 0, .slice none 0 0]) := fun W h => ⟨q1.stays h, q2.stays h⟩
  have HX : Hid (∀ W, Below W2.heap.size W2 W → Strs W a n X ∧ Strs W a' n' Y ∧ UpRow W lo (.slice ua un uc) l) := fun W h => by
    have hw := HB2.out.trans (h.mono HB2.out.size)
    exact ⟨h1.below hw, h2.below hw, hu.stays hw⟩
  have HL : Hid (un = l.length ∧ (∀ e ∈ l, e.n ≤ 1099511627776) ∧ (∀ x ∈ X, x.size ≤ 1048576) ∧ X.length = n) := ⟨hun, hz, hzx, h1.1⟩
  have hs2 : w.heap.size + 1 < W2.heap.size := q2.lt
  clear hW2 q1 q2 h1 h2 hu hun hz hzx
  obtain ⟨c0, c1, c2, c3, c4⟩ := (show _ ∧ _ ∧ _ ∧ _ ∧ _ from ⟨(HQ.out _ (Below.refl _ _)).1.cell 0 rfl, (HQ.out _ (Below.refl _ _)).1.cell 1 rfl, (HQ.out _ (Below.refl _ _)).1.cell 2 rfl, (HQ.out _ (Below.refl _ _)).1.cell 3 rfl, (HQ.out _ (Below.refl _ _)).1.cell 4 rfl⟩)
  go_enter Tryz.func62, Tryz.ntmps62
  go_upto_region 1 with fail
  rw [HE.out]
  clear HE
  go_wp2_with fail
  refine (specScopy_any a n ca X a' n' ca' Y ep nx ua un uc lo l W2 (HX.out _ (Below.refl _ _)).1 (HX.out _ (Below.refl _ _)).2.1 hn hn' (HX.out _ (Below.refl _ _)).2.2 HL.out.1 hul HL.out.2.1).mono ?_
  rintro e y1 ⟨⟨v, rfl, hv⟩, hb1⟩
  obtain ⟨b, cb, b', cb', va, vc, l', rfl, hs1, hm1⟩ := hv.get
  rw [List.length_map, ← HL.out.1] at hs1 ⊢
  have HA1 : Hid (SAt (y1.alloc (.cells #[.slice b X.length cb, .slice b' Y.length cb', .int .i64 ep, .int .i64 nx, .slice va un vc] 29)) W2.heap.size y1.heap.size b X.length cb X b' Y.length cb' Y ep nx va un vc l') := SAt.new hs1 hb1.size
  have HC1 : Hid (Below W2.heap.size W2 (y1.alloc (.cells #[.slice b X.length cb, .slice b' Y.length cb', .int .i64 ep, .int .i64 nx, .slice va un vc] 29))) := hb1.alloc hb1.size _
  have HM : Hid (l'.map UE.u = l.map UE.u) := hm1
  have HZ' : Hid (∀ e ∈ l', e.n ≤ 1099511627776) := sizes_same hm1 hs1.ups (HX.out _ (Below.refl _ _)).2.2 HL.out.2.1
  clear hv hs1 hb1 hm1 c0 c1 c2 c3 c4
  obtain ⟨d0, d1, d2, d3, d4⟩ := (show _ ∧ _ ∧ _ ∧ _ ∧ _ from ⟨(HQ.out _ HC1.out).1.cell 0 rfl, (HQ.out _ HC1.out).1.cell 1 rfl, (HQ.out _ HC1.out).1.cell 2 rfl, (HQ.out _ HC1.out).1.cell 3 rfl, (HQ.out _ HC1.out).1.cell 4 rfl⟩)
  go_wp2_with fail
  obtain ⟨w1, hw1⟩ : ∃ w1, y1.alloc (.cells #[.slice b X.length cb, .slice b' Y.length cb', .int .i64 ep, .int .i64 nx, .slice va un vc] 29) = w1 := ⟨_, rfl⟩
  rw [hw1] at HA1 HC1 ⊢
  clear hw1 d0 d1 d2 d3 d4
  have hlo : W2.heap.size ≤ y1.heap.size := HA1.out.lob
  generalize y1.heap.size = bo at *
  refine (specSok_any a n ca X a' n' ca' Y ep nx ua un uc lo l w1 (HX.out _ HC1.out).1 (HX.out _ HC1.out).2.1 hn hn' HL.out.2.2.1 (HX.out _ HC1.out).2.2 HL.out.1 hul).mono ?_
  rintro e y2 ⟨⟨ok, rfl, hok⟩, hb2⟩
  have hdb : ok = decB (SOk X Y ep nx (l.map UE.u)) := decB_iff hok
  have HA2 : Hid (SAt y2 W2.heap.size bo b X.length cb X b' Y.length cb' Y ep nx va un vc l') := HA1.out.stays hb2
  have HC2 : Hid (Below W2.heap.size W2 y2) := HC1.out.trans (hb2.mono HC1.out.size)
  clear hb2 HA1 HC1
  cases ok with
  | false =>
    have hno : ¬ decB (SOk X Y ep nx (l.map UE.u)) = true := by rw [← hdb]; simp
    clear hok hdb
    have HRs : Hid (doneA X Y ep nx (l.map UE.u) id sum = ⟨X, nx, l.map UE.u, 1⟩) := if_neg (fun h => hno h.1)
    have HBw : Hid (Below w.heap.size w y2) := HB2.out.trans (HC2.out.mono HB2.out.size)
    obtain ⟨r0, r1, r2, r3, r4⟩ := (show _ ∧ _ ∧ _ ∧ _ ∧ _ from ⟨(HQ.out _ HC2.out).2.cell 0 rfl, (HQ.out _ HC2.out).2.cell 1 rfl, (HQ.out _ HC2.out).2.cell 2 rfl, (HQ.out _ HC2.out).2.cell 3 rfl, (HQ.out _ HC2.out).2.cell 4 rfl⟩)
    obtain ⟨f0, f1, f2, f3, f4⟩ := (show _ ∧ _ ∧ _ ∧ _ ∧ _ from ⟨(HQ.out _ HC2.out).2.frozen 0, (HQ.out _ HC2.out).2.frozen 1, (HQ.out _ HC2.out).2.frozen 2, (HQ.out _ HC2.out).2.frozen 3, (HQ.out _ HC2.out).2.frozen 4⟩)
    obtain ⟨o0, o1, o2, o3, o4⟩ := (show _ ∧ _ ∧ _ ∧ _ ∧ _ from ⟨HA2.out.box.cell 0 rfl, HA2.out.box.cell 1 rfl, HA2.out.box.cell 2 rfl, HA2.out.box.cell 3 rfl, HA2.out.box.cell 4 rfl⟩)
    have HSt : Hid (StoAt y2 W2.heap.size b X.length cb X b' Y.length cb' Y va un vc l') := HA2.out.sto
    clear HQ HX HC2 HA2
    go_wp2_with fail
    refine bodyPost_ret (v := .tuple #[.agg #[.slice b X.length cb, .slice b' Y.length cb', .int .i64 ep, .int .i64 nx, .slice va un vc], .int .i64 1]) (by simp [results, Tryz.f62, go_sem, r0, r1, r2, r3, r4]) rfl ?_
    refine ⟨?_, ?_⟩
    · rw [WAns, HRs.out]
      exact ⟨_, rfl, b, X.length, cb, b', Y.length, cb', va, un, vc, l', rfl, (((((HSt.out.setLow (by omega) _).setLow (by omega) _).setLow (by omega) _).setLow (by omega) _).setLow (by omega) _).low (by omega), HM.out⟩
    · exact ((((HBw.out.setCell (by dsimp only; omega) _).setCell (by dsimp only; omega) _).setCell (by dsimp only; omega) _).setCell (by dsimp only; omega) _).setCell (by dsimp only; omega) _
  | true =>
  have HSo : Hid (SOk X Y ep nx (l.map UE.u)) := hok.1 rfl
  have HDb : Hid (decB (SOk X Y ep nx (l.map UE.u)) = true) := hdb.symm
  clear hok hdb
  go_wp2_with fail
  refine (specId_any id y2 (by omega)).mono ?_
  rintro _ y2 ⟨rfl, rfl⟩
  cases hidB : idB id.data.toList with
  | false =>
    have hno : ¬ idB id.data.toList = true := by rw [hidB]; simp
    clear hidB
    have HRs : Hid (doneA X Y ep nx (l.map UE.u) id sum = ⟨X, nx, l.map UE.u, 1⟩) := if_neg (fun h => hno h.2)
    have HBw : Hid (Below w.heap.size w y2) := HB2.out.trans (HC2.out.mono HB2.out.size)
    obtain ⟨r0, r1, r2, r3, r4⟩ := (show _ ∧ _ ∧ _ ∧ _ ∧ _ from ⟨(HQ.out _ HC2.out).2.cell 0 rfl, (HQ.out _ HC2.out).2.cell 1 rfl, (HQ.out _ HC2.out).2.cell 2 rfl, (HQ.out _ HC2.out).2.cell 3 rfl, (HQ.out _ HC2.out).2.cell 4 rfl⟩)
    obtain ⟨f0, f1, f2, f3, f4⟩ := (show _ ∧ _ ∧ _ ∧ _ ∧ _ from ⟨(HQ.out _ HC2.out).2.frozen 0, (HQ.out _ HC2.out).2.frozen 1, (HQ.out _ HC2.out).2.frozen 2, (HQ.out _ HC2.out).2.frozen 3, (HQ.out _ HC2.out).2.frozen 4⟩)
    obtain ⟨o0, o1, o2, o3, o4⟩ := (show _ ∧ _ ∧ _ ∧ _ ∧ _ from ⟨HA2.out.box.cell 0 rfl, HA2.out.box.cell 1 rfl, HA2.out.box.cell 2 rfl, HA2.out.box.cell 3 rfl, HA2.out.box.cell 4 rfl⟩)
    have HSt : Hid (StoAt y2 W2.heap.size b X.length cb X b' Y.length cb' Y va un vc l') := HA2.out.sto
    clear HQ HX HC2 HA2
    go_wp2_with fail
    refine bodyPost_ret (v := .tuple #[.agg #[.slice b X.length cb, .slice b' Y.length cb', .int .i64 ep, .int .i64 nx, .slice va un vc], .int .i64 1]) (by simp [results, Tryz.f62, go_sem, r0, r1, r2, r3, r4]) rfl ?_
    refine ⟨?_, ?_⟩
    · rw [WAns, HRs.out]
      exact ⟨_, rfl, b, X.length, cb, b', Y.length, cb', va, un, vc, l', rfl, (((((HSt.out.setLow (by omega) _).setLow (by omega) _).setLow (by omega) _).setLow (by omega) _).setLow (by omega) _).low (by omega), HM.out⟩
    · exact ((((HBw.out.setCell (by dsimp only; omega) _).setCell (by dsimp only; omega) _).setCell (by dsimp only; omega) _).setCell (by dsimp only; omega) _).setCell (by dsimp only; omega) _
  | true =>
  have HId : Hid (idB id.data.toList = true) := hidB
  clear hidB
  obtain ⟨hen, hn0, hnX, hX200⟩ := HSo.out.nums
  have hfew : un ≤ 10 := by have := HSo.out.few; rw [List.length_map, ← HL.out.1] at this; exact this
  obtain ⟨d0, d1, d2, d3, d4⟩ := (show _ ∧ _ ∧ _ ∧ _ ∧ _ from ⟨(HQ.out _ HC2.out).1.cell 0 rfl, (HQ.out _ HC2.out).1.cell 1 rfl, (HQ.out _ HC2.out).1.cell 2 rfl, (HQ.out _ HC2.out).1.cell 3 rfl, (HQ.out _ HC2.out).1.cell 4 rfl⟩)
  go_wp2_with fail
  refine (specAtU_any ua un uc lo id l y2 (HX.out _ HC2.out).2.2 HL.out.1 (by omega)).mono ?_
  rintro _ y2 ⟨rfl, rfl⟩
  clear d0 d1 d2 d3 d4
  cases hat : atU (l.map UE.u) id with
  | none =>
    have hki : atI (l.map UE.u) id = -1 := by rw [atI, hat]
    rw [hki]
    have HRs : Hid (doneA X Y ep nx (l.map UE.u) id sum = ⟨X, nx, l.map UE.u, 2⟩) := by show _ = _; rw [doneA, if_pos ⟨HDb.out, HId.out⟩, hat]
    have HBw : Hid (Below w.heap.size w y2) := HB2.out.trans (HC2.out.mono HB2.out.size)
    obtain ⟨r0, r1, r2, r3, r4⟩ := (show _ ∧ _ ∧ _ ∧ _ ∧ _ from ⟨(HQ.out _ HC2.out).2.cell 0 rfl, (HQ.out _ HC2.out).2.cell 1 rfl, (HQ.out _ HC2.out).2.cell 2 rfl, (HQ.out _ HC2.out).2.cell 3 rfl, (HQ.out _ HC2.out).2.cell 4 rfl⟩)
    obtain ⟨f0, f1, f2, f3, f4⟩ := (show _ ∧ _ ∧ _ ∧ _ ∧ _ from ⟨(HQ.out _ HC2.out).2.frozen 0, (HQ.out _ HC2.out).2.frozen 1, (HQ.out _ HC2.out).2.frozen 2, (HQ.out _ HC2.out).2.frozen 3, (HQ.out _ HC2.out).2.frozen 4⟩)
    obtain ⟨o0, o1, o2, o3, o4⟩ := (show _ ∧ _ ∧ _ ∧ _ ∧ _ from ⟨HA2.out.box.cell 0 rfl, HA2.out.box.cell 1 rfl, HA2.out.box.cell 2 rfl, HA2.out.box.cell 3 rfl, HA2.out.box.cell 4 rfl⟩)
    have HSt : Hid (StoAt y2 W2.heap.size b X.length cb X b' Y.length cb' Y va un vc l') := HA2.out.sto
    clear HQ HX HC2 HA2
    go_wp2_with fail
    refine bodyPost_ret (v := .tuple #[.agg #[.slice b X.length cb, .slice b' Y.length cb', .int .i64 ep, .int .i64 nx, .slice va un vc], .int .i64 2]) (by simp [results, Tryz.f62, go_sem, r0, r1, r2, r3, r4]) rfl ?_
    refine ⟨?_, ?_⟩
    · rw [WAns, HRs.out]
      exact ⟨_, rfl, b, X.length, cb, b', Y.length, cb', va, un, vc, l', rfl, (((((HSt.out.setLow (by omega) _).setLow (by omega) _).setLow (by omega) _).setLow (by omega) _).setLow (by omega) _).low (by omega), HM.out⟩
    · exact ((((HBw.out.setCell (by dsimp only; omega) _).setCell (by dsimp only; omega) _).setCell (by dsimp only; omega) _).setCell (by dsimp only; omega) _).setCell (by dsimp only; omega) _
  | some k =>
  have hki : atI (l.map UE.u) id = (k : Int) := by rw [atI, hat]
  have hkl : k < l.length := by simpa using (atU_is hat).1
  have hk0 : ¬ (k : Int) < 0 := by omega
  have hk1 : (0 : Int) ≤ (k : Int) := by omega
  have hku : (k : Int) < (un : Int) := by have := HL.out.1; omega
  rw [hki]
  have hguk : (l.map UE.u)[k]? = some (l[k]).u := by rw [List.getElem?_map, List.getElem?_eq_getElem hkl]; rfl
  obtain ⟨g, hg, g0, g1, g2, g3, _⟩ := (HX.out _ HC2.out).2.2.at HL.out.1 hkl
  have hul4 := (l[k]).u.zs.length
  have HUz : Hid ((l[k]).u.zs.length = (l[k]).n ∧ (l[k]).u.zs.length ≤ 4800) := ⟨((HX.out _ HC2.out).2.2.2.1 _ (List.getElem_mem hkl)).seg.1, (fold_small HSo.out.1 HSo.out.2.2.1).2 _ (List.mem_map_of_mem (List.getElem_mem hkl))⟩
  have HFt : Hid ((l[k]).u.fit) := HSo.out.fits _ (List.mem_map_of_mem (List.getElem_mem hkl))
  have HSg : Hid (Seg y2 (l[k]).a (l[k]).n (l[k]).u.zs) := ((HX.out _ HC2.out).2.2.2.1 _ (List.getElem_mem hkl)).seg
  have HWt : Hid (0 ≤ (l[k]).u.want ∧ (l[k]).u.want ≤ 1000000000) := HSo.out.wants _ (List.mem_map_of_mem (List.getElem_mem hkl))
  have HPa : Hid (∀ v : WA, (if ((l[k]).u.zs.length : Int) < (l[k]).u.want then (⟨X, nx, l.map UE.u, 4⟩ : WA) else if sum ≠ crcI (l[k]).u.zs then ⟨X, nx, l.map UE.u, 6⟩ else if (l[k]).u.done = true then ⟨X, nx, l.map UE.u, 0⟩ else if nx < (X.length : Int) then wroteA X ep nx (l.map UE.u) [doneR id] else ⟨X, nx, l.map UE.u, 5⟩) = v → doneA X Y ep nx (l.map UE.u) id sum = v) := fun v h => by
    rw [doneA, if_pos ⟨HDb.out, HId.out⟩, hat]
    dsimp only
    rw [hguk]
    exact h
  have HAt : Hid (atU (l.map UE.u) id = some k ∧ (l.map UE.u)[k]? = some (l[k]).u) := ⟨hat, hguk⟩
  subst hg
  generalize l[k] = x at *
  clear hat hguk hul4
  obtain ⟨Z, hZ⟩ : ∃ Z, x.u.zs.length = Z := ⟨_, rfl⟩
  have hxn : x.n = Z := by have := HUz.out.1; omega
  have hZb : Z ≤ 4800 := by have := HUz.out.2; omega
  rw [hZ] at HPa
  have HZe : Hid (x.u.zs.length = Z) := hZ
  rw [hxn] at g2 HSg
  clear hxn hZ HUz
  obtain ⟨y3, hy3⟩ : ∃ y3, y2.alloc (.cells #[.string x.u.id, .int .i64 x.u.want, .slice x.a Z x.c, .bool x.u.done] 42) = y3 := ⟨_, rfl⟩
  have HE3 : Hid (y2.alloc (.cells #[.string x.u.id, .int .i64 x.u.want, .slice x.a Z x.c, .bool x.u.done] 42) = y3) := hy3
  have hb3 : Below y2.heap.size y2 y3 := by rw [← hy3]; exact (Below.refl _ _).alloc (Nat.le_refl _) _
  have hv3 : BoxN y3 y2.heap.size 42 [.string x.u.id, .int .i64 x.u.want, .slice x.a Z x.c, .bool x.u.done] := by rw [← hy3]; exact BoxN.new _ _ _
  have e4 := (HQ.out _ HC2.out).1
  have u1 := hv3.cell 1 rfl
  have u2 := hv3.cell 2 rfl
  have u3 := hv3.cell 3 rfl
  have HS3 : Hid (Seg y3 x.a Z x.u.zs) := HSg.out.below hb3
  clear HSg
  have HA3 : Hid (SAt y3 W2.heap.size bo b X.length cb X b' Y.length cb' Y ep nx va un vc l') := HA2.out.stays hb3
  have HC3 : Hid (Below W2.heap.size W2 y3) := HC2.out.trans (hb3.mono HC2.out.size)
  clear hb3 HA2 HC2
  have d4 := e4.cell 4 rfl
  clear e4 hy3 hv3
  go_upto_region 8 with fail
  rw [HE3.out]
  clear HE3 g0 g1 g2 g3 d4
  by_cases hZw : (Z : Int) < x.u.want
  · have hZd : decide ((Z : Int) < x.u.want) = true := by simpa using hZw
    have HRs : Hid (doneA X Y ep nx (l.map UE.u) id sum = ⟨X, nx, l.map UE.u, 4⟩) := HPa.out _ (if_pos hZw)
    have HBw : Hid (Below w.heap.size w y3) := HB2.out.trans (HC3.out.mono HB2.out.size)
    obtain ⟨r0, r1, r2, r3, r4⟩ := (show _ ∧ _ ∧ _ ∧ _ ∧ _ from ⟨(HQ.out _ HC3.out).2.cell 0 rfl, (HQ.out _ HC3.out).2.cell 1 rfl, (HQ.out _ HC3.out).2.cell 2 rfl, (HQ.out _ HC3.out).2.cell 3 rfl, (HQ.out _ HC3.out).2.cell 4 rfl⟩)
    obtain ⟨f0, f1, f2, f3, f4⟩ := (show _ ∧ _ ∧ _ ∧ _ ∧ _ from ⟨(HQ.out _ HC3.out).2.frozen 0, (HQ.out _ HC3.out).2.frozen 1, (HQ.out _ HC3.out).2.frozen 2, (HQ.out _ HC3.out).2.frozen 3, (HQ.out _ HC3.out).2.frozen 4⟩)
    obtain ⟨o0, o1, o2, o3, o4⟩ := (show _ ∧ _ ∧ _ ∧ _ ∧ _ from ⟨HA3.out.box.cell 0 rfl, HA3.out.box.cell 1 rfl, HA3.out.box.cell 2 rfl, HA3.out.box.cell 3 rfl, HA3.out.box.cell 4 rfl⟩)
    have HSt : Hid (StoAt y3 W2.heap.size b X.length cb X b' Y.length cb' Y va un vc l') := HA3.out.sto
    clear HQ HX HC3 HA3
    go_wp2_with fail
    refine bodyPost_ret (v := .tuple #[.agg #[.slice b X.length cb, .slice b' Y.length cb', .int .i64 ep, .int .i64 nx, .slice va un vc], .int .i64 4]) (by simp [results, Tryz.f62, go_sem, r0, r1, r2, r3, r4]) rfl ?_
    refine ⟨?_, ?_⟩
    · rw [WAns, HRs.out]
      exact ⟨_, rfl, b, X.length, cb, b', Y.length, cb', va, un, vc, l', rfl, (((((HSt.out.setLow (by omega) _).setLow (by omega) _).setLow (by omega) _).setLow (by omega) _).setLow (by omega) _).low (by omega), HM.out⟩
    · exact ((((HBw.out.setCell (by dsimp only; omega) _).setCell (by dsimp only; omega) _).setCell (by dsimp only; omega) _).setCell (by dsimp only; omega) _).setCell (by dsimp only; omega) _
  have HPb : Hid (∀ v : WA, (if sum ≠ crcI x.u.zs then (⟨X, nx, l.map UE.u, 6⟩ : WA) else if x.u.done = true then ⟨X, nx, l.map UE.u, 0⟩ else if nx < (X.length : Int) then wroteA X ep nx (l.map UE.u) [doneR id] else ⟨X, nx, l.map UE.u, 5⟩) = v → doneA X Y ep nx (l.map UE.u) id sum = v) := fun v h => HPa.out v (by rw [if_neg hZw]; exact h)
  have HZw : Hid (x.u.want ≤ (Z : Int)) := by show _ ≤ _; omega
  clear HPa
  go_wp2_with fail
  refine (specCrc_any x.a Z x.c x.u.zs y3 HS3.out (by omega)).mono ?_
  rintro _ y3' ⟨rfl, rfl⟩
  rename World => y3
  have HCr : Hid (∀ z : Int, z = ((crcL x.u.zs ^^^ 4294967295 : Nat) : Int) ↔ z = crcI x.u.zs) := fun z => Iff.rfl
  generalize ((crcL x.u.zs ^^^ 4294967295 : Nat) : Int) = cr at *
  clear HS3
  by_cases hsum : sum = cr
  case neg =>
    have hsumb : (sum != cr) = true := by simpa using hsum
    have hsn : sum ≠ crcI x.u.zs := fun e => hsum ((HCr.out sum).2 e)
    have HRs : Hid (doneA X Y ep nx (l.map UE.u) id sum = ⟨X, nx, l.map UE.u, 6⟩) := HPb.out _ (if_pos hsn)
    have HBw : Hid (Below w.heap.size w y3) := HB2.out.trans (HC3.out.mono HB2.out.size)
    obtain ⟨r0, r1, r2, r3, r4⟩ := (show _ ∧ _ ∧ _ ∧ _ ∧ _ from ⟨(HQ.out _ HC3.out).2.cell 0 rfl, (HQ.out _ HC3.out).2.cell 1 rfl, (HQ.out _ HC3.out).2.cell 2 rfl, (HQ.out _ HC3.out).2.cell 3 rfl, (HQ.out _ HC3.out).2.cell 4 rfl⟩)
    obtain ⟨f0, f1, f2, f3, f4⟩ := (show _ ∧ _ ∧ _ ∧ _ ∧ _ from ⟨(HQ.out _ HC3.out).2.frozen 0, (HQ.out _ HC3.out).2.frozen 1, (HQ.out _ HC3.out).2.frozen 2, (HQ.out _ HC3.out).2.frozen 3, (HQ.out _ HC3.out).2.frozen 4⟩)
    obtain ⟨o0, o1, o2, o3, o4⟩ := (show _ ∧ _ ∧ _ ∧ _ ∧ _ from ⟨HA3.out.box.cell 0 rfl, HA3.out.box.cell 1 rfl, HA3.out.box.cell 2 rfl, HA3.out.box.cell 3 rfl, HA3.out.box.cell 4 rfl⟩)
    have HSt : Hid (StoAt y3 W2.heap.size b X.length cb X b' Y.length cb' Y va un vc l') := HA3.out.sto
    clear HQ HX HC3 HA3
    go_wp2_with fail
    refine bodyPost_ret (v := .tuple #[.agg #[.slice b X.length cb, .slice b' Y.length cb', .int .i64 ep, .int .i64 nx, .slice va un vc], .int .i64 6]) (by simp [results, Tryz.f62, go_sem, r0, r1, r2, r3, r4]) rfl ?_
    refine ⟨?_, ?_⟩
    · rw [WAns, HRs.out]
      exact ⟨_, rfl, b, X.length, cb, b', Y.length, cb', va, un, vc, l', rfl, (((((HSt.out.setLow (by omega) _).setLow (by omega) _).setLow (by omega) _).setLow (by omega) _).setLow (by omega) _).low (by omega), HM.out⟩
    · exact ((((HBw.out.setCell (by dsimp only; omega) _).setCell (by dsimp only; omega) _).setCell (by dsimp only; omega) _).setCell (by dsimp only; omega) _).setCell (by dsimp only; omega) _
  have hsumb : (sum != cr) = false := by simpa using hsum
  have HPc : Hid (∀ v : WA, (if x.u.done = true then (⟨X, nx, l.map UE.u, 0⟩ : WA) else if nx < (X.length : Int) then wroteA X ep nx (l.map UE.u) [doneR id] else ⟨X, nx, l.map UE.u, 5⟩) = v → doneA X Y ep nx (l.map UE.u) id sum = v) := fun v h => HPb.out v (by rw [if_neg (fun hne => hne ((HCr.out sum).1 hsum))]; exact h)
  clear HPb
  cases hdone : x.u.done with
  | true =>
    rw [hdone] at u3
    have HRs : Hid (doneA X Y ep nx (l.map UE.u) id sum = ⟨X, nx, l.map UE.u, 0⟩) := HPc.out _ (if_pos hdone)
    have HBw : Hid (Below w.heap.size w y3) := HB2.out.trans (HC3.out.mono HB2.out.size)
    obtain ⟨r0, r1, r2, r3, r4⟩ := (show _ ∧ _ ∧ _ ∧ _ ∧ _ from ⟨(HQ.out _ HC3.out).2.cell 0 rfl, (HQ.out _ HC3.out).2.cell 1 rfl, (HQ.out _ HC3.out).2.cell 2 rfl, (HQ.out _ HC3.out).2.cell 3 rfl, (HQ.out _ HC3.out).2.cell 4 rfl⟩)
    obtain ⟨f0, f1, f2, f3, f4⟩ := (show _ ∧ _ ∧ _ ∧ _ ∧ _ from ⟨(HQ.out _ HC3.out).2.frozen 0, (HQ.out _ HC3.out).2.frozen 1, (HQ.out _ HC3.out).2.frozen 2, (HQ.out _ HC3.out).2.frozen 3, (HQ.out _ HC3.out).2.frozen 4⟩)
    obtain ⟨o0, o1, o2, o3, o4⟩ := (show _ ∧ _ ∧ _ ∧ _ ∧ _ from ⟨HA3.out.box.cell 0 rfl, HA3.out.box.cell 1 rfl, HA3.out.box.cell 2 rfl, HA3.out.box.cell 3 rfl, HA3.out.box.cell 4 rfl⟩)
    have HSt : Hid (StoAt y3 W2.heap.size b X.length cb X b' Y.length cb' Y va un vc l') := HA3.out.sto
    clear HQ HX HC3 HA3
    go_wp2_with fail
    refine bodyPost_ret (v := .tuple #[.agg #[.slice b X.length cb, .slice b' Y.length cb', .int .i64 ep, .int .i64 nx, .slice va un vc], .int .i64 0]) (by simp [results, Tryz.f62, go_sem, r0, r1, r2, r3, r4]) rfl ?_
    refine ⟨?_, ?_⟩
    · rw [WAns, HRs.out]
      exact ⟨_, rfl, b, X.length, cb, b', Y.length, cb', va, un, vc, l', rfl, (((((HSt.out.setLow (by omega) _).setLow (by omega) _).setLow (by omega) _).setLow (by omega) _).setLow (by omega) _).low (by omega), HM.out⟩
    · exact ((((HBw.out.setCell (by dsimp only; omega) _).setCell (by dsimp only; omega) _).setCell (by dsimp only; omega) _).setCell (by dsimp only; omega) _).setCell (by dsimp only; omega) _
  | false =>
  rw [hdone] at u3
  have HDn : Hid (x.u.done = false) := hdone
  obtain ⟨d0, d1, d2, d3, d4⟩ := (show _ ∧ _ ∧ _ ∧ _ ∧ _ from ⟨(HQ.out _ HC3.out).1.cell 0 rfl, (HQ.out _ HC3.out).1.cell 1 rfl, (HQ.out _ HC3.out).1.cell 2 rfl, (HQ.out _ HC3.out).1.cell 3 rfl, (HQ.out _ HC3.out).1.cell 4 rfl⟩)
  go_wp2_with fail
  refine (specLeft_any a n ca a' n' ca' ep nx (some ⟨g, 0, none⟩) un uc y3 (by omega) (by omega)).mono ?_
  rintro _ y4 ⟨rfl, hb4⟩
  clear d0 d1 d2 d3 d4 u1 u2 u3
  have HA4 : Hid (SAt y4 W2.heap.size bo b X.length cb X b' Y.length cb' Y ep nx va un vc l') := HA3.out.stays hb4
  have HC4 : Hid (Below W2.heap.size W2 y4) := HC3.out.trans (hb4.mono HC3.out.size)
  clear hb4 HA3 HC3
  by_cases hroom : (n : Int) - nx < 1
  · have hrn : ¬ nx < (X.length : Int) := by have := HL.out.2.2.2; omega
    have HRs : Hid (doneA X Y ep nx (l.map UE.u) id sum = ⟨X, nx, l.map UE.u, 5⟩) := HPc.out _ (by rw [if_neg (by rw [hdone]; simp), if_neg hrn])
    have HBw : Hid (Below w.heap.size w y4) := HB2.out.trans (HC4.out.mono HB2.out.size)
    obtain ⟨r0, r1, r2, r3, r4⟩ := (show _ ∧ _ ∧ _ ∧ _ ∧ _ from ⟨(HQ.out _ HC4.out).2.cell 0 rfl, (HQ.out _ HC4.out).2.cell 1 rfl, (HQ.out _ HC4.out).2.cell 2 rfl, (HQ.out _ HC4.out).2.cell 3 rfl, (HQ.out _ HC4.out).2.cell 4 rfl⟩)
    obtain ⟨f0, f1, f2, f3, f4⟩ := (show _ ∧ _ ∧ _ ∧ _ ∧ _ from ⟨(HQ.out _ HC4.out).2.frozen 0, (HQ.out _ HC4.out).2.frozen 1, (HQ.out _ HC4.out).2.frozen 2, (HQ.out _ HC4.out).2.frozen 3, (HQ.out _ HC4.out).2.frozen 4⟩)
    obtain ⟨o0, o1, o2, o3, o4⟩ := (show _ ∧ _ ∧ _ ∧ _ ∧ _ from ⟨HA4.out.box.cell 0 rfl, HA4.out.box.cell 1 rfl, HA4.out.box.cell 2 rfl, HA4.out.box.cell 3 rfl, HA4.out.box.cell 4 rfl⟩)
    have HSt : Hid (StoAt y4 W2.heap.size b X.length cb X b' Y.length cb' Y va un vc l') := HA4.out.sto
    clear HQ HX HC4 HA4
    go_wp2_with fail
    refine bodyPost_ret (v := .tuple #[.agg #[.slice b X.length cb, .slice b' Y.length cb', .int .i64 ep, .int .i64 nx, .slice va un vc], .int .i64 5]) (by simp [results, Tryz.f62, go_sem, r0, r1, r2, r3, r4]) rfl ?_
    refine ⟨?_, ?_⟩
    · rw [WAns, HRs.out]
      exact ⟨_, rfl, b, X.length, cb, b', Y.length, cb', va, un, vc, l', rfl, (((((HSt.out.setLow (by omega) _).setLow (by omega) _).setLow (by omega) _).setLow (by omega) _).setLow (by omega) _).low (by omega), HM.out⟩
    · exact ((((HBw.out.setCell (by dsimp only; omega) _).setCell (by dsimp only; omega) _).setCell (by dsimp only; omega) _).setCell (by dsimp only; omega) _).setCell (by dsimp only; omega) _
  have hMn : nx < (X.length : Int) := by have := HL.out.2.2.2; omega
  have ho1 := done_fits HAt.out.1 HAt.out.2 HDn.out (by have h1 := HFt.out.1; have h2 := HZw.out; have h3 := HZe.out; omega)
  obtain ⟨us0, hus0⟩ : ∃ us0, (l.map UE.u).set k { x.u with done := true } = us0 := ⟨_, rfl⟩
  rw [hus0] at ho1
  obtain ⟨M, hM⟩ := Int.eq_ofNat_of_zero_le hn0
  obtain ⟨E, hE⟩ := Int.eq_ofNat_of_zero_le hen.1
  subst hM hE
  have hMl : M < X.length := by omega
  have HRs : Hid (doneA X Y (E : Int) (M : Int) (l.map UE.u) id sum = ⟨X.set M (txU (sumB (recB E M 3 id 0 []))), (M : Int) + 1, us0, 0⟩) := by
    refine HPc.out _ ?_
    rw [if_neg (by rw [hdone]; simp), if_pos hMn]
    show wroteA X (E : Int) (M : Int) (l.map UE.u) [doneR id] = _
    have hf : [doneR id].foldlM oneU (l.map UE.u) = some us0 := by rw [List.foldlM_cons, ho1]; rfl
    rw [wroteA, hf]
    rfl
  have hi8 : id.size ≤ 255 := by
    have h := HId.out
    simp only [idB, Bool.and_eq_true, decide_eq_true_eq, Array.length_toList] at h
    have h8 : id.data.size = id.size := rfl
    omega
  have HWr : Hid (Calls Tryz.prog 89 #[.pointer (some ⟨bo, 0, none⟩), .agg #[.int .i64 0, .int .i64 0, .int .i64 3, .string id, .int .i64 0, .slice none 0 0]] y4 fun e w' => e = .returned (.tuple #[]) ∧ (∃ ua' un' uc' l2, BoxN w' bo 29 [.slice b X.length cb, .slice b' Y.length cb', .int .i64 (E : Int), .int .i64 ((M : Int) + 1), .slice ua' un' uc'] ∧ StoAt w' W2.heap.size b X.length cb (X.set M (txU (sumB (recB E M 3 id 0 [])))) b' Y.length cb' Y ua' un' uc' l2 ∧ l2.map UE.u = us0) ∧ Below W2.heap.size y4 w') :=
    specWrite_any W2.heap.size bo b cb X b' Y.length cb' Y E M va un vc l' 0 0 3 id 0 none 0 0 [] us0 y4 HA4.out.box HA4.out.sto hlo 0 (owns_nil _ _) hMl (by omega) (by omega) HZ'.out hi8 (by omega) (by omega) (by omega) (by omega) (by rw [HM.out]; exact ho1)
  clear HPc
  go_wp2_with fail
  refine HWr.out.mono ?_
  rintro _ y5 ⟨rfl, ⟨ua', un', uc', l2, hq5, hs5, hm5⟩, hb5⟩
  have HC5 : Hid (Below W2.heap.size W2 y5) := HC4.out.trans hb5
  have HBw : Hid (Below w.heap.size w y5) := HB2.out.trans (HC5.out.mono HB2.out.size)
  obtain ⟨r0, r1, r2, r3, r4⟩ := (show _ ∧ _ ∧ _ ∧ _ ∧ _ from ⟨(HQ.out _ HC5.out).2.cell 0 rfl, (HQ.out _ HC5.out).2.cell 1 rfl, (HQ.out _ HC5.out).2.cell 2 rfl, (HQ.out _ HC5.out).2.cell 3 rfl, (HQ.out _ HC5.out).2.cell 4 rfl⟩)
  obtain ⟨f0, f1, f2, f3, f4⟩ := (show _ ∧ _ ∧ _ ∧ _ ∧ _ from ⟨(HQ.out _ HC5.out).2.frozen 0, (HQ.out _ HC5.out).2.frozen 1, (HQ.out _ HC5.out).2.frozen 2, (HQ.out _ HC5.out).2.frozen 3, (HQ.out _ HC5.out).2.frozen 4⟩)
  obtain ⟨o0, o1, o2, o3, o4⟩ := (show _ ∧ _ ∧ _ ∧ _ ∧ _ from ⟨hq5.cell 0 rfl, hq5.cell 1 rfl, hq5.cell 2 rfl, hq5.cell 3 rfl, hq5.cell 4 rfl⟩)
  have HSt : Hid (StoAt y5 W2.heap.size b X.length cb (X.set M (txU (sumB (recB E M 3 id 0 [])))) b' Y.length cb' Y ua' un' uc' l2 ∧ l2.map UE.u = us0) := ⟨hs5, hm5⟩
  clear HQ HX HC4 HA4 HC5 hq5 hs5 hm5 hb5 HWr
  go_wp2_with fail
  refine bodyPost_ret (v := .tuple #[.agg #[.slice b X.length cb, .slice b' Y.length cb', .int .i64 (E : Int), .int .i64 ((M : Int) + 1), .slice ua' un' uc'], .int .i64 0]) (by simp [results, Tryz.f62, go_sem, r0, r1, r2, r3, r4]) rfl ?_
  refine ⟨?_, ?_⟩
  · rw [WAns, HRs.out]
    exact ⟨_, rfl, b, X.length, cb, b', Y.length, cb', ua', un', uc', l2, rfl, (((((HSt.out.1.setLow (by omega) _).setLow (by omega) _).setLow (by omega) _).setLow (by omega) _).setLow (by omega) _).low (by omega), HSt.out.2⟩
  · exact ((((HBw.out.setCell (by dsimp only; omega) _).setCell (by dsimp only; omega) _).setCell (by dsimp only; omega) _).setCell (by dsimp only; omega) _).setCell (by dsimp only; omega) _

end Go.Proofs.YtiigdcpjelbdjaaGreatDoor
