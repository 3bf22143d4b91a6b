/- The library's iterator Backward over fields: from the last one on. A loop over an iterator whose variable is a struct of its own in each round (Turns has the loops over plain variables). No program in it. Maps whose keys are fields, or texts: how a key reads; the least number of each key, from a place on. The program's first fields: an array by value, whose parts are never walked one by one. -/
import Derived.RangeFuncBound
import Derived.RangeFuncCalls
import Derived.Shelf.Abstract
import Derived.Shelf.RegionOpen
import Derived.OwnWalkIn
import Derived.TacticsInMore
import Derived.LoopNIn
import Derived.LoopIn
import Derived.Test.YtbaijmkghgnleaaGreatDoorM04
import Derived.Test.YtbaijmkghgnleaaGreatDoorM10
import Derived.Test.YtbaijmkghgnleaaGreatDoorM05
import Derived.Maps.Views
import Derived.Maps.Own
import Derived.Maps.OwnSet
import Derived.DeepKeys4
import Derived.Test.YtbaijmkghgnleaaGreatDoorM09
import Derived.Laws.Rows
import Derived.Laws.Tables
import Derived.Deep.WholeRow
namespace Go.Proofs.YtbaijmkghgnleaaGreatDoor
open Go.RowKit Go.Shelf
set_option linter.unusedVariables false
attribute [local go_sem] Oper.semAt_some

/-- What a round is handed: the place, and the field there. -/
abbrev encB (xs : List Fld) (k : Nat) : Array Value := #[.int .i64 (k : Int), .agg #[.string (xs.getD k (⟨#[]⟩, ⟨#[]⟩)).1, .string (xs.getD k (⟨#[]⟩, ⟨#[]⟩)).2]]

set_option maxRecDepth 100000 in
set_option maxHeartbeats 1000000 in
theorem back_iter (n B Bb : Nat) (a : Option Addr) (len cap : Nat) (xs : List Fld) (hn : 1 ≤ n) (hl : len ≤ 2097300) (hxl : xs.length = len) (I0 I1 : Nat → World → Prop) (Ix : Code → Nat → World → Prop) (Ie : Nat → World → Prop) (Ib : World → Prop)
    (hb : ∀ W, Ib W → Boxed W Bb 30 (.slice a len cap) ∧ (0 < len → I0 (len - 1) W) ∧ (len = 0 → Ie 0 W))
    (h0 : ∀ k W, I0 k W → k < len ∧ Boxed W Bb 30 (.slice a len cap) ∧ Flds W a len xs)
    (h1 : ∀ k W, I1 k W → (0 < k → I0 (k - 1) W) ∧ (k = 0 → Ie 0 W)) :
    Iter Fence.wide n Tryz.prog B 110 #[.pointer (some ⟨Bb, 0, none⟩)] (encB xs) I0 I1 Ix Ie Ib := by
  intro l L0 L1 k0 k1 hY W hi hl0
  obtain ⟨hbx, hi0, hi1⟩ := hb W hi
  have hc := hbx.cell
  clear hb hi hbx
  refine callsIn_of_wp Tryz.func110 rfl trivial ?_ rfl
  simp only [Tryz.ntmps110, List.size_toArray, List.length_cons, List.length_nil, Nat.reduceAdd, Nat.reduceSub, Array.replicate_succ, Array.replicate_zero, List.push_toArray, List.append_toArray, List.nil_append, List.cons_append]
  gi_wp2
  gi_loopw [3] (fun i wr => ∃ k : Nat, k ≤ len ∧ i = .int .i64 ((k : Int) - 1) ∧ (0 < k → I0 (k - 1) wr) ∧ (k = 0 → Ie 0 wr) ∧ L0 wr) (fun i _ => (intOf i + 1).toNat)
  case atStart => exact ⟨len, Nat.le_refl _, rfl, hi0, hi1, hl0⟩
  case round =>
    clear hi0 hi1 hl0 hc
    obtain ⟨k, hk, rfl, hI, hE, hL⟩ := hrel
    cases k with
    | zero =>
      have he := hE rfl
      gi_wp2
      go_end0
      exact ⟨⟨_, rfl⟩, .inl ⟨⟨_, he⟩, hL⟩⟩
    | succ j =>
      have hs := hI (Nat.succ_pos _)
      rw [Nat.add_sub_cancel] at hs
      obtain ⟨hj, hbx, hfl⟩ := h0 _ _ hs
      obtain ⟨fn, tmps, assign, body, hy, hR⟩ := hY _ wr hs hL
      obtain ⟨b, off, x, y, rfl, hb, hfx, hc0, hc1⟩ := hfl.at hj
      have hc := hbx.cell
      have ex : xs.getD j (⟨#[]⟩, ⟨#[]⟩) = (x, y) := by rw [List.getD_eq_getElem?_getD, hfx]; rfl
      simp only [encB, ex] at hy
      have hji : ((j + 1 : Nat) : Int) - 1 = (j : Int) := by omega
      have hjl : (j : Int) < (len : Int) := by omega
      rw [hji]
      clear hfl hfx hbx
      gi_wp2
      refine hR.mono ?_
      clear hR hy hc0 hc1 hc hs hL hI hE
      rintro e W3 (⟨rfl, h3, l3⟩ | ⟨rfl, c, h3, l3⟩)
      · obtain ⟨j0, j1⟩ := h1 _ _ h3
        gi_wp2
        go_roundw
        case rel => exact ⟨j, by omega, by go_num, j0, j1, l3⟩
        case measure => simp [intOf]
      · gi_wp2
        refine bodyPost_ret (results_none rfl _ _ _) rfl ?_
        exact ⟨⟨_, rfl⟩, .inr ⟨c, _, h3, l3⟩⟩

set_option maxHeartbeats 400000 in
theorem backward_any (a : Option Addr) (len cap : Nat) (w : World) (n : Nat) :
    CallsIn Fence.wide n Tryz.prog 94 #[.slice a len cap] w fun e w' => e = .returned (.func (.func 110) #[] #[.pointer (some ⟨w.heap.size, 0, none⟩)]) ∧ w' = w.alloc (.cells #[.slice a len cap] 30) := by
  refine callsIn_of_wp Tryz.func94 rfl trivial ?_ rfl
  simp only [Tryz.ntmps94, List.size_toArray, List.length_cons, List.length_nil, Nat.reduceAdd, Nat.reduceSub, Array.replicate_succ, Array.replicate_zero, List.push_toArray, List.append_toArray, List.nil_append, List.cons_append]
  gi_wp2
  go_ret
  exact ⟨rfl, rfl⟩

end Go.Proofs.YtbaijmkghgnleaaGreatDoor

namespace Go.Proofs.YtbaijmkghgnleaaGreatDoor
open Go.RowKit
set_option linter.unusedVariables false

variable {F : Fence} {n : Nat} {P : Program}

theorem TwoL.alloc {l D : Nat} {r : Loop} {W : World} (h : TwoL l D r W) (o : Obj) : TwoL l D r (W.alloc o) :=
  ⟨(Below.heap_alloc _ _ _ (Array.getElem?_eq_some_iff.1 h.1).1).trans h.1, (Below.heap_alloc _ _ _ (Array.getElem?_eq_some_iff.1 h.2).1).trans h.2⟩

theorem putObj_alloc (W : World) (l : Nat) (x o : Obj) (h : l < W.heap.size) : (W.alloc o).putObj l x = (W.putObj l x).alloc o := by
  unfold World.putObj World.alloc
  have e : (W.heap.push o).setIfInBounds l x = (W.heap.setIfInBounds l x).push o := by
    apply Array.ext_getElem?
    intro i
    simp only [Array.getElem?_setIfInBounds, Array.getElem?_push, Array.size_push, Array.size_setIfInBounds]
    by_cases h1 : l = i
    · subst h1
      have : ¬ l = W.heap.size := by omega
      simp [h, this]
      omega
    · simp [h1]
  simp only [e]

/-- One round, from its body's walk. -/
theorem round_turn_var {m l D B : Nat} {r : Loop} {args : Array Value} {W V0 : World} {G : World → Prop} {X : Code → World → Prop} {a1 : Act} (hF : F.fn r.fn) (hst : r.state = .ready) (hpe : r.pending = none) (h0 : TwoL l D r W) (h : TwoL l D r V0) (hne : l ≠ D) (hl : B ≤ l) (hD : B ≤ D) (hs : args.size = r.params.size)
    (hassign : ∀ K : Act → World → Prop, K a1 V0 → r.assign.wpIn (F.inRound l) m P (Exit.then K (fun _ _ _ => False)) { tmps := (r.params.zip args).foldl (fun t (p, v) => t.setIfInBounds p v) r.tmps, defers := [] } W)
    (hbody : r.body.wpIn (F.inRound l) m P (leaves B (V0.putObj l (.loop { r with state := .busy })) G X) a1 (V0.putObj l (.loop { r with state := .busy }))) :
    YieldAt F m P l args W fun e W' => (e = .returned (.bool true) ∧ ∃ V, G V ∧ TwoL l D { r with state := .busy } V ∧ W' = V.putObj l (.loop r)) ∨
      (e = .returned (.bool false) ∧ ∃ c V, X c V ∧ TwoL l D { r with state := .busy } V ∧ W' = V.putObj l (.loop { r with state := .done, pending := some c })) := by
  have hb := h.turn hne { r with state := .busy }
  have er : ({ r with state := .ready, pending := none } : Loop) = r := by cases r; simp only at hst hpe; subst hst hpe; rfl
  have out : ∀ (c : Code) (V : World), KeepsFrom B (V0.putObj l (.loop { r with state := .busy })) V → X c V → ∃ v W', (Instr.endRound l (some c)).run P V = .ok v W' ∧
      ((Ending.returned v = .returned (.bool true) ∧ ∃ V, G V ∧ TwoL l D { r with state := .busy } V ∧ W' = V.putObj l (.loop r)) ∨
       (Ending.returned v = .returned (.bool false) ∧ ∃ c V, X c V ∧ TwoL l D { r with state := .busy } V ∧ W' = V.putObj l (.loop { r with state := .done, pending := some c }))) := fun c V k x =>
    ⟨_, _, run_endRound (some c) (hb.keep hl hD k).1, .inr ⟨rfl, c, V, x, hb.keep hl hD k, rfl⟩⟩
  refine ⟨r.fn, _, r.assign, r.body, run_yield h0.1 hs, roundIn_of_wpIn hF (hassign _ ⟨_, run_beginRound h.1 hst, wpIn_mono hbody ?_⟩)⟩
  intro e a3 V hV
  cases e with
  | normal => exact ⟨_, _, run_endRound none (hb.keep hl hD hV.1).1, .inl ⟨rfl, V, hV.2, hb.keep hl hD hV.1, congrArg (fun q => V.putObj l (.loop q)) er⟩⟩
  | ret => exact out _ V hV.1 hV.2
  | exit i => exact out _ V hV.1 hV.2
  | goto t => exact out _ V hV.1 hV.2
  | panic c => exact hV.elim
  | outgrown => exact hV.elim

theorem loop_turns_var {σ : Type} {g : Operand} {ps : Array Tmp} {assign body : Code} {Q : Exit → Act → World → Prop} {a : Act} {w : World}
    (hro : F.round = none) (h1 : 1 ≤ n) {gf : Nat} {lb : Array Value} (hg : a.eval g = .func (.func gf) #[] lb) (hFg : F.fn gf) (eg : ∀ args w, (callFunc gf args).run P w = .ok (.enter gf args) w)
    (enc : σ → Array Value) (hps : ∀ s, (enc s).size = ps.size) (I0 I1 : σ → World → Prop) (Ix : Code → σ → World → Prop) (Ie : σ → World → Prop) (Ib : World → Prop)
    (hiter : Iter F (n - 1) P w.heap.size gf lb enc I0 I1 Ix Ie Ib)
    (o0 : OwnFrom w.heap.size I0) (o1 : OwnFrom w.heap.size I1) (ox : ∀ c, OwnFrom w.heap.size (Ix c)) (oe : OwnFrom w.heap.size Ie) (ob : OwnFrom w.heap.size (fun (_ : Unit) W => Ib W)) (hs0 : Ib w) (o : σ → Obj) (a₁ : σ → Nat → Act)
    (hassign : ∀ (l : Nat) (s : σ) (W : World) (q : Nat), W.heap.size = q → ∀ (K : Act → World → Prop), K (a₁ s q) (W.alloc (o s)) → assign.wpIn (F.inRound l) (n - 1 - 1) P (Exit.then K (fun _ _ _ => False)) { tmps := (ps.zip (enc s)).foldl (fun t (p, v) => t.setIfInBounds p v) a.tmps, defers := [] } W)
    (hbody : ∀ (l : Nat) (s : σ) (W : World), I0 s W → w.heap.size ≤ W.heap.size → body.wpIn (F.inRound l) (n - 1 - 1) P (leaves w.heap.size (W.alloc (o s)) (I1 s) (fun c => Ix c s)) (a₁ s W.heap.size) (W.alloc (o s)))
    (hdone : ∀ (D : Nat) (s : σ) (W : World), w.heap.size ≤ D → Ie s W → W.heap[D]? = some (.deferred (some [])) → Q .normal { a with defers := { target := .collected D, args := #[] } :: a.defers } W)
    (hstop : ∀ (D : Nat) (c : Code) (s : σ) (W : World), w.heap.size ≤ D → Ix c s W → W.heap[D]? = some (.deferred (some [])) → c.wpIn F n P Q { a with defers := { target := .collected D, args := #[] } :: a.defers } W) :
    (Code.rangeFunc g ps assign body).wpIn F n P Q a w := by
  refine wpIn_rangeFunc fun fn hfn => ?_
  rw [hro]
  obtain ⟨r, hr⟩ : ∃ r : Loop, ({ state := .ready, pending := none, fn, tmps := a.tmps, params := ps, assign, body, defers := w.heap.size } : Loop) = r := ⟨_, rfl⟩
  have hen := run_enterLoop_outer (P := P) (w := w) fn a.tmps ps assign body
  rw [hr] at hen
  have t1 : TwoL (w.heap.size + 1) w.heap.size r ((w.alloc (.deferred (some []))).alloc (.loop r)) := by
    refine ⟨?_, (Below.heap_alloc _ _ _ (by simp)).trans (World.alloc_heap_new w _)⟩
    have := World.alloc_heap_new (w.alloc (.deferred (some []))) (.loop r)
    rwa [World.size_alloc] at this
  obtain ⟨W1, hW⟩ : ∃ W1, (w.alloc (.deferred (some []))).alloc (.loop r) = W1 := ⟨_, rfl⟩
  have hs1 : Ib W1 := by rw [← hW]; exact ob.alloc (s := ()) _ (ob.alloc (s := ()) _ hs0)
  rw [hW] at hen t1
  refine ⟨w.heap.size + 1, [{ target := .collected w.heap.size, args := #[] }], W1, { target := .fn (.func gf) lb, args := #[.func (.yield (w.heap.size + 1)) #[] #[]] }, W1, gf, #[.func (.yield (w.heap.size + 1)) #[] #[]] ++ lb, W1, hen, ?_, ?_, ?_, fun _ => h1, ?_⟩
  · simp only [resolve, hg]
    simp [go_sem]
  · intro f' hf'
    simp [Target.leads] at hf'
    exact hf' ▸ hFg
  · simp [invoke, go_sem, eg]
  · refine (hiter (w.heap.size + 1) (TwoL (w.heap.size + 1) w.heap.size r) (fun c => TwoL (w.heap.size + 1) w.heap.size { r with state := .done, pending := some c })
      (fun V V' h k => h.keep (by omega) (Nat.le_refl _) k) (fun c V V' h k => h.keep (by omega) (Nat.le_refl _) k) ?_ W1 hs1 t1).mono ?_
    · intro s W hi ht
      have hb : I0 s (W.putObj (w.heap.size + 1) (.loop { r with state := .busy })) := o0.putObj _ hi (by omega) ht.1 rfl
      have hlt : w.heap.size + 1 < W.heap.size := (Array.getElem?_eq_some_iff.1 ht.1).1
      have hcm : (W.alloc (o s)).putObj (w.heap.size + 1) (.loop { r with state := .busy }) = (W.putObj (w.heap.size + 1) (.loop { r with state := .busy })).alloc (o s) := putObj_alloc _ _ _ _ hlt
      have hsz : (W.putObj (w.heap.size + 1) (.loop { r with state := .busy })).heap.size = W.heap.size := by simp [World.putObj]
      obtain ⟨fn', tm, asg, bo, hy, hR⟩ := round_turn_var (P := P) (m := n - 1 - 1) (B := w.heap.size) (V0 := W.alloc (o s)) (a1 := a₁ s W.heap.size) (args := enc s) (G := I1 s) (X := fun c => Ix c s) (by rw [← hr]; exact hfn) (by rw [← hr]) (by rw [← hr]) ht (ht.alloc _) (by omega) (by omega) (Nat.le_refl _) (by rw [← hr]; exact hps s)
        (by rw [← hr]; exact fun K hK => hassign _ s W _ rfl K hK) (by have := hbody (w.heap.size + 1) s _ hb (by rw [hsz]; omega); rw [hsz] at this; rw [hcm]; rw [← hr]; rw [← hr] at this; exact this)
      refine ⟨fn', tm, asg, bo, hy, hR.mono ?_⟩
      rintro e W' (⟨rfl, V, hG, hT, rfl⟩ | ⟨rfl, c, V, hX, hT, rfl⟩)
      · exact .inl ⟨rfl, o1.putObj _ hG (by omega) hT.1 rfl, hT.turn (by omega) _⟩
      · exact .inr ⟨rfl, c, (ox c).putObj _ hX (by omega) hT.1 rfl, hT.turn (by omega) _⟩
    · rintro e W' ⟨⟨v, rfl⟩, ⟨s, hi, ht⟩ | ⟨c, s, hi, ht⟩⟩
      · refine ⟨_, _, run_endLoop ht.1 (by rw [← hr]; simp), ?_⟩
        have := hdone w.heap.size s _ (Nat.le_refl _) (oe.putObj (.loop { r with state := .exhausted }) hi (by omega) ht.1 rfl) ((World.putObj_heap_other (by omega)).trans ht.2)
        rw [← hr] at this ⊢
        exact this
      · refine ⟨_, _, run_endLoop ht.1 (by simp), ?_⟩
        exact hstop w.heap.size c s _ (Nat.le_refl _) ((ox c).putObj _ hi (by omega) ht.1 rfl) ((World.putObj_heap_other (by omega)).trans ht.2)

end Go.Proofs.YtbaijmkghgnleaaGreatDoor

namespace Go.Proofs.YtbaijmkghgnleaaGreatDoor
open Go.RowKit
set_option linter.unusedVariables false

theorem prog_laid : laidOutB Tryz.prog = true := by kernel_rfl

theorem field_keyed : Maps.Keyed Tryz.prog 69 := .of_law (deep_law_laid prog_laid (m := 3) (by omega) (of_decide_eq_true (by kernel_rfl)) (by kernel_rfl) (by kernel_rfl))

theorem text_keyed : Maps.Keyed Tryz.prog 9 := Maps.string_keyed Tryz.underlying9

/-- What a field reads as, as a key. -/
def litF (f : Fld) : Lit := .string (keyBytes [.string f.1.data.toList, .string f.2.data.toList])
def litT (x : ByteArray) : Lit := .string x.data.toList
abbrev fitsF (f : Fld) : Prop := f.1.size ≤ maxLen ∧ f.2.size ≤ maxLen

theorem key_field (f : Fld) (h : fitsF f) : keyOf Tryz.prog 69 (.agg #[.string f.1, .string f.2]) = some (litF f) := by
  have hk : Tryz.prog.keyType 69 = true := by kernel_rfl
  obtain ⟨n, hn⟩ : ∃ n, Tryz.prog.types.size + 1 = n + 2 := ⟨Tryz.prog.types.size - 1, by kernel_rfl⟩
  unfold keyOf
  rw [Tryz.underlying69, hn]
  have c2 : Tryz.prog.cellsOf 69 = 2 := by kernel_rfl
  have c1 : Tryz.prog.cellsOf 9 = 1 := by kernel_rfl
  simp [Program.keyLits, Tryz.underlying69, Tryz.underlying9, hk, h.1, h.2, Value.formed, Value.cells, c1, c2, litF]

theorem litF_inj {f g : Fld} (hf : fitsF f) (hg : fitsF g) (e : litF f = litF g) : f = g := by
  have h := field_keyed.inj (key_field f hf) (by rw [e]; exact key_field g hg)
  simp at h
  exact Prod.ext h.1 h.2

theorem litT_inj {x y : ByteArray} (e : litT x = litT y) : x = y := by
  have h : x.data.toList = y.data.toList := by
    have := e
    unfold litT at this
    injection this
  have h' : x.data = y.data := Array.toList_inj.1 h
  cases x; cases y; simp at h'; rw [h']

/-- The map D tells the least place of each key, plus 1, among those from j on. -/
def Num {κ : Type} (K : List κ) (lit : κ → Lit) (ok : κ → Prop) (j : Nat) (D : DataW Unit) : Prop := Maps.IsMap D ∧ ∀ x, ok x →
  (∃ i, j ≤ i ∧ K[i]? = some x ∧ (∀ i', j ≤ i' → i' < i → K[i']? ≠ some x) ∧ Maps.has D (lit x) = true ∧ ∀ z, D.atKey (lit x) z = .lit (.int .i64 ((i : Int) + 1))) ∨
  ((∀ i, j ≤ i → K[i]? ≠ some x) ∧ Maps.has D (lit x) = false ∧ ∀ z, D.atKey (lit x) z = z)

theorem Num.start {κ : Type} (K : List κ) (lit : κ → Lit) (ok : κ → Prop) : Num K lit ok K.length (.map []) := by
  refine ⟨Maps.isMap_empty, fun x hx => .inr ⟨fun i hi => ?_, rfl, fun z => rfl⟩⟩
  rw [List.getElem?_eq_none hi]
  simp

theorem Num.step {κ : Type} {K : List κ} {lit : κ → Lit} {ok : κ → Prop} {j : Nat} {D : DataW Unit} (h : Num K lit ok (j + 1) D) (y : κ) (hy : K[j]? = some y) (hk : WideAt.IsKeyLit (lit y)) (inj : ∀ x, ok x → lit x = lit y → x = y) :
    Num K lit ok j (D.put (lit y) (.lit (.int .i64 ((j : Int) + 1)))) := by
  refine ⟨h.1.put _ _, fun x hx => ?_⟩
  by_cases e : x = y
  · subst e
    exact .inl ⟨j, Nat.le_refl _, hy, fun i' h1 h2 => by omega, Maps.has_put_same h.1 hk _, fun z => Maps.atKey_put_same h.1 hk _ _⟩
  · have hne : lit x ≠ lit y := fun h => e (inj x hx h)
    rcases h.2 x hx with ⟨i, h1, h2, h3, h4, h5⟩ | ⟨h1, h2, h3⟩
    · refine .inl ⟨i, by omega, h2, fun i' g1 g2 => ?_, (Maps.has_put_other hne _).trans h4, fun z => (Maps.atKey_put_other hne _ _).trans (h5 z)⟩
      by_cases g : i' = j
      · rw [g, hy]
        intro c
        injection c with c
        exact e c.symm
      · exact h3 i' (by omega) g2
    · refine .inr ⟨fun i hi => ?_, (Maps.has_put_other hne _).trans h2, fun z => (Maps.atKey_put_other hne _ _).trans (h3 z)⟩
      by_cases g : i = j
      · rw [g, hy]
        intro c
        injection c with c
        exact e c.symm
      · exact h1 i (by omega)

end Go.Proofs.YtbaijmkghgnleaaGreatDoor

namespace Go.Proofs.YtbaijmkghgnleaaGreatDoor
open Go.RowKit
set_option linter.unusedVariables false

/-- Operations that make these fields, in the slots from k on. -/
def Builds (t : TypeId) : Nat → List Oper → List Fld → Prop
  | _, [], [] => True
  | k, o :: os, f :: fs => o.guard = none ∧ o.dst = some k ∧ o.op = .build t #[(0, .const (.string f.1)), (1, .const (.string f.2))] ∧ Builds t (k + 1) os fs
  | _, _, _ => False

def putAll : Array Value → Nat → List Fld → Array Value
  | T, _, [] => T
  | T, k, f :: fs => putAll (T.setIfInBounds k (.agg #[.string f.1, .string f.2])) (k + 1) fs

theorem wpList_builds {P : Program} {ops : Array Oper} {rest : List Oper} {w : World} {Q : Exit → Act → World → Prop} {t : TypeId} (hbt : ∀ x y, P.built t [(0, .string x), (1, .string y)] = some #[.string x, .string y]) :
    ∀ (os : List Oper) (L : List Fld) (k : Nat) (a : Act), Builds t k os L → wpList P ops Q rest { a with tmps := putAll a.tmps k L } w → wpList P ops Q (os ++ rest) a w := by
  intro os
  induction os with
  | nil =>
    intro L k a hb h
    cases L with
    | nil => exact h
    | cons f fs => exact hb.elim
  | cons o os ih =>
    intro L k a hb h
    cases L with
    | nil => exact hb.elim
    | cons f fs =>
      obtain ⟨hg, hd, ho, hb⟩ := hb
      have e : P.built t ((#[(0, Operand.const (.string f.1)), (1, Operand.const (.string f.2))] : Array (Nat × Operand)).map fun (i, x) => (i, a.eval x)).toList = some #[.string f.1, .string f.2] := by
        simp only [List.map_toArray, List.map_cons, List.map_nil]
        exact hbt f.1 f.2
      refine wpList_build hg t _ ho (by rw [e]; rfl) ?_
      rw [e, hd]
      exact ih fs (k + 1) _ hb h

/-- The body of a function that answers a literal of an array of fields. -/
def fldsBody (t : TypeId) (ops : Array Oper) (p0 : String) : Code :=
  (Code.region 0 #[{ dst := some 0, op := .alloc t, type := 0, pos := p0, after := #[], guard := none }] false).seq ((Code.region 1 ops false).seq .ret)

theorem flds_calls {P : Program} {f : FuncId} {fn : Func} (hf : P.funcs[f]? = some fn) (t u e : TypeId) (n m : Nat) (L : List Fld) (p0 : String) (ops : Array Oper) (os : List Oper) (ob ostore : Oper) (parts : Array (Nat × Operand)) (cells z : Array Value)
    (hb : fn.body = some (fldsBody t ops p0)) (hn : fn.ntmps = m) (hr : fn.results = #[.cell 0 t])
    (hops : ops.toList = os ++ [ob, ostore]) (hB : Builds u 1 os L) (hob : ob.op = .build t parts) (hog : ob.guard = none) (hod : ob.dst = some (L.length + 1)) (hos : ostore.op = .store t (.tmp 0) (.tmp (L.length + 1))) (hsg : ostore.guard = none) (hsd : ostore.dst = none)
    (hbt : ∀ x y, P.built u [(0, .string x), (1, .string y)] = some #[.string x, .string y])
    (hu : P.underlying t = some (.array n e)) (hz : ∀ w, (zeroValue t).run P w = .ok (.agg z) w) (hsz : z.size = cells.size) (hi : (P.info? t).map (·.size) = some cells.size)
    (h1 : cells.all (·.oneCell') = true) (hpt : ∀ v : Value, (putAll ((Array.replicate m undef).setIfInBounds 0 v) 1 L)[0]? = some v) (hsl : ∀ v : Value, L.length + 1 < (putAll ((Array.replicate m undef).setIfInBounds 0 v) 1 L).size)
    (hbig : ∀ v : Value, P.built t (parts.map fun (i, x) => (i, ({ tmps := putAll ((Array.replicate m undef).setIfInBounds 0 v) 1 L, defers := [] } : Act).eval x)).toList = some cells) (w : World) :
    Calls P f #[] w fun e w' => e = .returned (.agg cells) ∧ w' = w.alloc (.cells cells t) := by
  refine calls_of_wp hf hb ?_
  unfold fldsBody
  rw [hn]
  have e0 : (#[] ++ Array.replicate (m - (#[] : Array Value).size) undef : Array Value) = Array.replicate m undef := by simp
  rw [e0]
  go_wp2_with fail
  refine wpList_builds hbt os L 1 _ hB ?_
  refine wpList_build hog t parts hob (by rw [hbig]; rfl) ?_
  rw [hbig, hod, Option.getD_some]
  have hlt := hsl (Value.pointer (some { block := w.heap.size, off := 0 }))
  have hp0 := hpt (Value.pointer (some { block := w.heap.size, off := 0 }))
  generalize putAll ((Array.replicate m undef).setIfInBounds 0 (Value.pointer (some { block := w.heap.size, off := 0 }))) 1 L = T at *
  have hx : (T.setIfInBounds (L.length + 1) (.agg cells)).getD 0 undef = .pointer (some ⟨w.heap.size, 0, none⟩) := by
    rw [Array.getD_eq_getD_getElem?, Array.getElem?_setIfInBounds_ne (by omega), hp0]
    rfl
  have hy : (T.setIfInBounds (L.length + 1) (.agg cells)).getD (L.length + 1) undef = .agg cells := by
    rw [Array.getD_eq_getD_getElem?, Array.getElem?_setIfInBounds_self_of_lt hlt]
    rfl
  refine wpList_store_row hsg t _ _ hos w.heap.size cells hx hy t z (heap_alloc_last w _) hi hsz h1 ?_
  rw [World.setRow_alloc_new, hsd]
  go_wp2_with fail
  exact bodyPost_ret (results_cell_row hr _ _ w.heap.size t cells (0, 0) _ hx (heap_alloc_last w _) hu rfl hi) rfl ⟨rfl, rfl⟩

theorem Tryz.infoF : (Tryz.prog.info? 116).map (fun i => (i.zero, i.size)) = some (some (.agg (Array.replicate 122 (.string ⟨#[]⟩))), 122) := by kernel_rfl

theorem firstCells_len : (fieldCells firstL).toArray.size = 122 := by decide +kernel
theorem firstCells_one : (fieldCells firstL).toArray.all (·.oneCell') = true := by kernel_rfl

set_option maxRecDepth 100000 in
theorem implFirst_any (w : World) : Calls Tryz.prog 92 #[] w fun e w' => e = .returned (.agg (fieldCells firstL).toArray) ∧ w' = w.alloc (.cells (fieldCells firstL).toArray 116) := by
  refine flds_calls Tryz.func92 116 69 69 61 63 firstL _ _ _ _ _ _ (fieldCells firstL).toArray (Array.replicate 122 (.string ⟨#[]⟩))
    (hb := rfl) (hn := rfl) (hr := rfl) (hops := (rfl : _ = [_, _, _, _, _, _, _, _, _, _, _, _, _, _, _, _, _, _, _, _, _, _, _, _, _, _, _, _, _, _, _, _, _, _, _, _, _, _, _, _, _, _, _, _, _, _, _, _, _, _, _, _, _, _, _, _, _, _, _, _, _] ++ [_, _])) (hB := ⟨rfl, rfl, rfl, rfl, rfl, rfl, rfl, rfl, rfl, rfl, rfl, rfl, rfl, rfl, rfl, rfl, rfl, rfl, rfl, rfl, rfl, rfl, rfl, rfl, rfl, rfl, rfl, rfl, rfl, rfl, rfl, rfl, rfl, rfl, rfl, rfl, rfl, rfl, rfl, rfl, rfl, rfl, rfl, rfl, rfl, rfl, rfl, rfl, rfl, rfl, rfl, rfl, rfl, rfl, rfl, rfl, rfl, rfl, rfl, rfl, rfl, rfl, rfl, rfl, rfl, rfl, rfl, rfl, rfl, rfl, rfl, rfl, rfl, rfl, rfl, rfl, rfl, rfl, rfl, rfl, rfl, rfl, rfl, rfl, rfl, rfl, rfl, rfl, rfl, rfl, rfl, rfl, rfl, rfl, rfl, rfl, rfl, rfl, rfl, rfl, rfl, rfl, rfl, rfl, rfl, rfl, rfl, rfl, rfl, rfl, rfl, rfl, rfl, rfl, rfl, rfl, rfl, rfl, rfl, rfl, rfl, rfl, rfl, rfl, rfl, rfl, rfl, rfl, rfl, rfl, rfl, rfl, rfl, rfl, rfl, rfl, rfl, rfl, rfl, rfl, rfl, rfl, rfl, rfl, rfl, rfl, rfl, rfl, rfl, rfl, rfl, rfl, rfl, rfl, rfl, rfl, rfl, rfl, rfl, rfl, rfl, rfl, rfl, rfl, rfl, rfl, rfl, rfl, rfl, rfl, rfl, rfl, rfl, rfl, rfl, rfl, rfl, rfl, rfl, rfl, rfl, rfl, rfl, trivial⟩) (hob := rfl) (hog := rfl) (hod := rfl) (hos := rfl) (hsg := rfl) (hsd := rfl) (hbt := fun _ _ => rfl) (hu := Tryz.underlying116) (hz := (zero_of_info Tryz.infoF).1) (hsz := by decide +kernel) (hi := ?_) (h1 := firstCells_one) (hpt := fun v => by kernel_rfl) (hsl := fun v => of_decide_eq_true (by kernel_rfl)) (hbig := fun v => by kernel_rfl) w
  rw [firstCells_len]
  exact (zero_of_info Tryz.infoF).2

end Go.Proofs.YtbaijmkghgnleaaGreatDoor
