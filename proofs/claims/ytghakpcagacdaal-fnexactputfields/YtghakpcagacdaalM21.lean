/- The library's iterator Backward over fields: from the last one on. A loop over an iterator whose variable is a struct of its own in each round (Turns has the loops over plain variables). No program in it. Maps whose keys are fields, or texts: how a key reads; the least number of each key, from a place on. -/
import Derived.RangeFuncBound
import Derived.RangeFuncCalls
import Derived.Shelf.Abstract
import Derived.Shelf.RegionOpen
import Derived.OwnWalkIn
import Derived.TacticsInMore
import Derived.LoopNIn
import Derived.LoopIn
import Derived.Test.YtghakpcagacdaalM05
import Derived.Test.YtghakpcagacdaalM13
import Derived.Test.YtghakpcagacdaalM07
import Derived.Maps.Views
import Derived.Maps.Own
import Derived.Maps.OwnSet
import Derived.DeepKeys4
namespace Go.Proofs.Ytghakpcagacdaal
open Go.RowKit Go.Shelf
set_option linter.unusedVariables false
attribute [local go_sem] Oper.semAt_some

/-- What a round is handed: the place, and the field there. -/
abbrev encB (xs : List Fld) (k : Nat) : Array Value := #[.int .i64 (k : Int), .agg #[.string (xs.getD k (⟨#[]⟩, ⟨#[]⟩)).1, .string (xs.getD k (⟨#[]⟩, ⟨#[]⟩)).2]]

set_option maxRecDepth 100000 in
set_option maxHeartbeats 1000000 in
theorem back_iter (n B Bb : Nat) (a : Option Addr) (len cap : Nat) (xs : List Fld) (hn : 1 ≤ n) (hl : len ≤ 2097300) (hxl : xs.length = len) (I0 I1 : Nat → World → Prop) (Ix : Code → Nat → World → Prop) (Ie : Nat → World → Prop) (Ib : World → Prop)
    (hb : ∀ W, Ib W → Boxed W Bb 38 (.slice a len cap) ∧ (0 < len → I0 (len - 1) W) ∧ (len = 0 → Ie 0 W))
    (h0 : ∀ k W, I0 k W → k < len ∧ Boxed W Bb 38 (.slice a len cap) ∧ Flds W a len xs)
    (h1 : ∀ k W, I1 k W → (0 < k → I0 (k - 1) W) ∧ (k = 0 → Ie 0 W)) :
    Iter Fence.wide n Try.prog B 118 #[.pointer (some ⟨Bb, 0, none⟩)] (encB xs) I0 I1 Ix Ie Ib := by
  intro l L0 L1 k0 k1 hY W hi hl0
  obtain ⟨hbx, hi0, hi1⟩ := hb W hi
  have hc := hbx.cell
  clear hb hi hbx
  refine callsIn_of_wp Try.func118 rfl trivial ?_ rfl
  simp only [Try.ntmps118, List.size_toArray, List.length_cons, List.length_nil, Nat.reduceAdd, Nat.reduceSub, Array.replicate_succ, Array.replicate_zero, List.push_toArray, List.append_toArray, List.nil_append, List.cons_append]
  gi_wp2
  gi_loopw [3] (fun i wr => ∃ k : Nat, k ≤ len ∧ i = .int .i64 ((k : Int) - 1) ∧ (0 < k → I0 (k - 1) wr) ∧ (k = 0 → Ie 0 wr) ∧ L0 wr) (fun i _ => (intOf i + 1).toNat)
  case atStart => exact ⟨len, Nat.le_refl _, rfl, hi0, hi1, hl0⟩
  case round =>
    clear hi0 hi1 hl0 hc
    obtain ⟨k, hk, rfl, hI, hE, hL⟩ := hrel
    cases k with
    | zero =>
      have he := hE rfl
      gi_wp2
      go_end0
      exact ⟨⟨_, rfl⟩, .inl ⟨⟨_, he⟩, hL⟩⟩
    | succ j =>
      have hs := hI (Nat.succ_pos _)
      rw [Nat.add_sub_cancel] at hs
      obtain ⟨hj, hbx, hfl⟩ := h0 _ _ hs
      obtain ⟨fn, tmps, assign, body, hy, hR⟩ := hY _ wr hs hL
      obtain ⟨b, off, x, y, rfl, hb, hfx, hc0, hc1⟩ := hfl.at hj
      have hc := hbx.cell
      have ex : xs.getD j (⟨#[]⟩, ⟨#[]⟩) = (x, y) := by rw [List.getD_eq_getElem?_getD, hfx]; rfl
      simp only [encB, ex] at hy
      have hji : ((j + 1 : Nat) : Int) - 1 = (j : Int) := by omega
      have hjl : (j : Int) < (len : Int) := by omega
      rw [hji]
      clear hfl hfx hbx
      gi_wp2
      refine hR.mono ?_
      clear hR hy hc0 hc1 hc hs hL hI hE
      rintro e W3 (⟨rfl, h3, l3⟩ | ⟨rfl, c, h3, l3⟩)
      · obtain ⟨j0, j1⟩ := h1 _ _ h3
        gi_wp2
        go_roundw
        case rel => exact ⟨j, by omega, by go_num, j0, j1, l3⟩
        case measure => simp [intOf]
      · gi_wp2
        refine bodyPost_ret (results_none rfl _ _ _) rfl ?_
        exact ⟨⟨_, rfl⟩, .inr ⟨c, _, h3, l3⟩⟩

set_option maxHeartbeats 400000 in
theorem backward_any (a : Option Addr) (len cap : Nat) (w : World) (n : Nat) :
    CallsIn Fence.wide n Try.prog 105 #[.slice a len cap] w fun e w' => e = .returned (.func (.func 118) #[] #[.pointer (some ⟨w.heap.size, 0, none⟩)]) ∧ w' = w.alloc (.cells #[.slice a len cap] 38) := by
  refine callsIn_of_wp Try.func105 rfl trivial ?_ rfl
  simp only [Try.ntmps105, List.size_toArray, List.length_cons, List.length_nil, Nat.reduceAdd, Nat.reduceSub, Array.replicate_succ, Array.replicate_zero, List.push_toArray, List.append_toArray, List.nil_append, List.cons_append]
  gi_wp2
  go_ret
  exact ⟨rfl, rfl⟩

end Go.Proofs.Ytghakpcagacdaal

namespace Go.Proofs.Ytghakpcagacdaal
open Go.RowKit
set_option linter.unusedVariables false

variable {F : Fence} {n : Nat} {P : Program}

theorem Two.alloc {l D : Nat} {r : Loop} {W : World} (h : Two l D r W) (o : Obj) : Two l D r (W.alloc o) :=
  ⟨(Below.heap_alloc _ _ _ (Array.getElem?_eq_some_iff.1 h.1).1).trans h.1, (Below.heap_alloc _ _ _ (Array.getElem?_eq_some_iff.1 h.2).1).trans h.2⟩

theorem putObj_alloc (W : World) (l : Nat) (x o : Obj) (h : l < W.heap.size) : (W.alloc o).putObj l x = (W.putObj l x).alloc o := by
  unfold World.putObj World.alloc
  have e : (W.heap.push o).setIfInBounds l x = (W.heap.setIfInBounds l x).push o := by
    apply Array.ext_getElem?
    intro i
    simp only [Array.getElem?_setIfInBounds, Array.getElem?_push, Array.size_push, Array.size_setIfInBounds]
    by_cases h1 : l = i
    · subst h1
      have : ¬ l = W.heap.size := by omega
      simp [h, this]
      omega
    · simp [h1]
  simp only [e]

/-- One round, from its body's walk. -/
theorem round_turn_var {m l D B : Nat} {r : Loop} {args : Array Value} {W V0 : World} {G : World → Prop} {X : Code → World → Prop} {a1 : Act} (hF : F.fn r.fn) (hst : r.state = .ready) (hpe : r.pending = none) (h0 : Two l D r W) (h : Two l D r V0) (hne : l ≠ D) (hl : B ≤ l) (hD : B ≤ D) (hs : args.size = r.params.size)
    (hassign : ∀ K : Act → World → Prop, K a1 V0 → r.assign.wpIn (F.inRound l) m P (Exit.then K (fun _ _ _ => False)) { tmps := (r.params.zip args).foldl (fun t (p, v) => t.setIfInBounds p v) r.tmps, defers := [] } W)
    (hbody : r.body.wpIn (F.inRound l) m P (leaves B (V0.putObj l (.loop { r with state := .busy })) G X) a1 (V0.putObj l (.loop { r with state := .busy }))) :
    YieldAt F m P l args W fun e W' => (e = .returned (.bool true) ∧ ∃ V, G V ∧ Two l D { r with state := .busy } V ∧ W' = V.putObj l (.loop r)) ∨
      (e = .returned (.bool false) ∧ ∃ c V, X c V ∧ Two l D { r with state := .busy } V ∧ W' = V.putObj l (.loop { r with state := .done, pending := some c })) := by
  have hb := h.turn hne { r with state := .busy }
  have er : ({ r with state := .ready, pending := none } : Loop) = r := by cases r; simp only at hst hpe; subst hst hpe; rfl
  have out : ∀ (c : Code) (V : World), KeepsFrom B (V0.putObj l (.loop { r with state := .busy })) V → X c V → ∃ v W', (Instr.endRound l (some c)).run P V = .ok v W' ∧
      ((Ending.returned v = .returned (.bool true) ∧ ∃ V, G V ∧ Two l D { r with state := .busy } V ∧ W' = V.putObj l (.loop r)) ∨
       (Ending.returned v = .returned (.bool false) ∧ ∃ c V, X c V ∧ Two l D { r with state := .busy } V ∧ W' = V.putObj l (.loop { r with state := .done, pending := some c }))) := fun c V k x =>
    ⟨_, _, run_endRound (some c) (hb.keep hl hD k).1, .inr ⟨rfl, c, V, x, hb.keep hl hD k, rfl⟩⟩
  refine ⟨r.fn, _, r.assign, r.body, run_yield h0.1 hs, roundIn_of_wpIn hF (hassign _ ⟨_, run_beginRound h.1 hst, wpIn_mono hbody ?_⟩)⟩
  intro e a3 V hV
  cases e with
  | normal => exact ⟨_, _, run_endRound none (hb.keep hl hD hV.1).1, .inl ⟨rfl, V, hV.2, hb.keep hl hD hV.1, congrArg (fun q => V.putObj l (.loop q)) er⟩⟩
  | ret => exact out _ V hV.1 hV.2
  | exit i => exact out _ V hV.1 hV.2
  | goto t => exact out _ V hV.1 hV.2
  | panic c => exact hV.elim
  | outgrown => exact hV.elim

theorem loop_turns_var {σ : Type} {g : Operand} {ps : Array Tmp} {assign body : Code} {Q : Exit → Act → World → Prop} {a : Act} {w : World}
    (hro : F.round = none) (h1 : 1 ≤ n) {gf : Nat} {lb : Array Value} (hg : a.eval g = .func (.func gf) #[] lb) (hFg : F.fn gf) (eg : ∀ args w, (callFunc gf args).run P w = .ok (.enter gf args) w)
    (enc : σ → Array Value) (hps : ∀ s, (enc s).size = ps.size) (I0 I1 : σ → World → Prop) (Ix : Code → σ → World → Prop) (Ie : σ → World → Prop) (Ib : World → Prop)
    (hiter : Iter F (n - 1) P w.heap.size gf lb enc I0 I1 Ix Ie Ib)
    (o0 : OwnFrom w.heap.size I0) (o1 : OwnFrom w.heap.size I1) (ox : ∀ c, OwnFrom w.heap.size (Ix c)) (oe : OwnFrom w.heap.size Ie) (ob : OwnFrom w.heap.size (fun (_ : Unit) W => Ib W)) (hs0 : Ib w) (o : σ → Obj) (a₁ : σ → Nat → Act)
    (hassign : ∀ (l : Nat) (s : σ) (W : World) (q : Nat), W.heap.size = q → ∀ (K : Act → World → Prop), K (a₁ s q) (W.alloc (o s)) → assign.wpIn (F.inRound l) (n - 1 - 1) P (Exit.then K (fun _ _ _ => False)) { tmps := (ps.zip (enc s)).foldl (fun t (p, v) => t.setIfInBounds p v) a.tmps, defers := [] } W)
    (hbody : ∀ (l : Nat) (s : σ) (W : World), I0 s W → w.heap.size ≤ W.heap.size → body.wpIn (F.inRound l) (n - 1 - 1) P (leaves w.heap.size (W.alloc (o s)) (I1 s) (fun c => Ix c s)) (a₁ s W.heap.size) (W.alloc (o s)))
    (hdone : ∀ (D : Nat) (s : σ) (W : World), w.heap.size ≤ D → Ie s W → W.heap[D]? = some (.deferred (some [])) → Q .normal { a with defers := { target := .collected D, args := #[] } :: a.defers } W)
    (hstop : ∀ (D : Nat) (c : Code) (s : σ) (W : World), w.heap.size ≤ D → Ix c s W → W.heap[D]? = some (.deferred (some [])) → c.wpIn F n P Q { a with defers := { target := .collected D, args := #[] } :: a.defers } W) :
    (Code.rangeFunc g ps assign body).wpIn F n P Q a w := by
  refine wpIn_rangeFunc fun fn hfn => ?_
  rw [hro]
  obtain ⟨r, hr⟩ : ∃ r : Loop, ({ state := .ready, pending := none, fn, tmps := a.tmps, params := ps, assign, body, defers := w.heap.size } : Loop) = r := ⟨_, rfl⟩
  have hen := run_enterLoop_outer (P := P) (w := w) fn a.tmps ps assign body
  rw [hr] at hen
  have t1 : Two (w.heap.size + 1) w.heap.size r ((w.alloc (.deferred (some []))).alloc (.loop r)) := by
    refine ⟨?_, (Below.heap_alloc _ _ _ (by simp)).trans (World.alloc_heap_new w _)⟩
    have := World.alloc_heap_new (w.alloc (.deferred (some []))) (.loop r)
    rwa [World.size_alloc] at this
  obtain ⟨W1, hW⟩ : ∃ W1, (w.alloc (.deferred (some []))).alloc (.loop r) = W1 := ⟨_, rfl⟩
  have hs1 : Ib W1 := by rw [← hW]; exact ob.alloc (s := ()) _ (ob.alloc (s := ()) _ hs0)
  rw [hW] at hen t1
  refine ⟨w.heap.size + 1, [{ target := .collected w.heap.size, args := #[] }], W1, { target := .fn (.func gf) lb, args := #[.func (.yield (w.heap.size + 1)) #[] #[]] }, W1, gf, #[.func (.yield (w.heap.size + 1)) #[] #[]] ++ lb, W1, hen, ?_, ?_, ?_, fun _ => h1, ?_⟩
  · simp only [resolve, hg]
    simp [go_sem]
  · intro f' hf'
    simp [Target.leads] at hf'
    exact hf' ▸ hFg
  · simp [invoke, go_sem, eg]
  · refine (hiter (w.heap.size + 1) (Two (w.heap.size + 1) w.heap.size r) (fun c => Two (w.heap.size + 1) w.heap.size { r with state := .done, pending := some c })
      (fun V V' h k => h.keep (by omega) (Nat.le_refl _) k) (fun c V V' h k => h.keep (by omega) (Nat.le_refl _) k) ?_ W1 hs1 t1).mono ?_
    · intro s W hi ht
      have hb : I0 s (W.putObj (w.heap.size + 1) (.loop { r with state := .busy })) := o0.putObj _ hi (by omega) ht.1 rfl
      have hlt : w.heap.size + 1 < W.heap.size := (Array.getElem?_eq_some_iff.1 ht.1).1
      have hcm : (W.alloc (o s)).putObj (w.heap.size + 1) (.loop { r with state := .busy }) = (W.putObj (w.heap.size + 1) (.loop { r with state := .busy })).alloc (o s) := putObj_alloc _ _ _ _ hlt
      have hsz : (W.putObj (w.heap.size + 1) (.loop { r with state := .busy })).heap.size = W.heap.size := by simp [World.putObj]
      obtain ⟨fn', tm, asg, bo, hy, hR⟩ := round_turn_var (P := P) (m := n - 1 - 1) (B := w.heap.size) (V0 := W.alloc (o s)) (a1 := a₁ s W.heap.size) (args := enc s) (G := I1 s) (X := fun c => Ix c s) (by rw [← hr]; exact hfn) (by rw [← hr]) (by rw [← hr]) ht (ht.alloc _) (by omega) (by omega) (Nat.le_refl _) (by rw [← hr]; exact hps s)
        (by rw [← hr]; exact fun K hK => hassign _ s W _ rfl K hK) (by have := hbody (w.heap.size + 1) s _ hb (by rw [hsz]; omega); rw [hsz] at this; rw [hcm]; rw [← hr]; rw [← hr] at this; exact this)
      refine ⟨fn', tm, asg, bo, hy, hR.mono ?_⟩
      rintro e W' (⟨rfl, V, hG, hT, rfl⟩ | ⟨rfl, c, V, hX, hT, rfl⟩)
      · exact .inl ⟨rfl, o1.putObj _ hG (by omega) hT.1 rfl, hT.turn (by omega) _⟩
      · exact .inr ⟨rfl, c, (ox c).putObj _ hX (by omega) hT.1 rfl, hT.turn (by omega) _⟩
    · rintro e W' ⟨⟨v, rfl⟩, ⟨s, hi, ht⟩ | ⟨c, s, hi, ht⟩⟩
      · refine ⟨_, _, run_endLoop ht.1 (by rw [← hr]; simp), ?_⟩
        have := hdone w.heap.size s _ (Nat.le_refl _) (oe.putObj (.loop { r with state := .exhausted }) hi (by omega) ht.1 rfl) ((World.putObj_heap_other (by omega)).trans ht.2)
        rw [← hr] at this ⊢
        exact this
      · refine ⟨_, _, run_endLoop ht.1 (by simp), ?_⟩
        exact hstop w.heap.size c s _ (Nat.le_refl _) ((ox c).putObj _ hi (by omega) ht.1 rfl) ((World.putObj_heap_other (by omega)).trans ht.2)

end Go.Proofs.Ytghakpcagacdaal

namespace Go.Proofs.Ytghakpcagacdaal
open Go.RowKit
set_option linter.unusedVariables false

theorem prog_laid : laidOutB Try.prog = true := by kernel_rfl

theorem field_keyed : Maps.Keyed Try.prog 44 := .of_law (deep_law_laid prog_laid (m := 3) (by omega) (of_decide_eq_true (by kernel_rfl)) (by kernel_rfl) (by kernel_rfl))

theorem text_keyed : Maps.Keyed Try.prog 9 := Maps.string_keyed Try.underlying9

/-- What a field reads as, as a key. -/
def litF (f : Fld) : Lit := .string (keyBytes [.string f.1.data.toList, .string f.2.data.toList])
def litT (x : ByteArray) : Lit := .string x.data.toList
abbrev fitsF (f : Fld) : Prop := f.1.size ≤ maxLen ∧ f.2.size ≤ maxLen

theorem key_field (f : Fld) (h : fitsF f) : keyOf Try.prog 44 (.agg #[.string f.1, .string f.2]) = some (litF f) := by
  have hk : Try.prog.keyType 44 = true := by kernel_rfl
  obtain ⟨n, hn⟩ : ∃ n, Try.prog.types.size + 1 = n + 2 := ⟨Try.prog.types.size - 1, by kernel_rfl⟩
  unfold keyOf
  rw [Try.underlying44, hn]
  have c2 : Try.prog.cellsOf 44 = 2 := by kernel_rfl
  have c1 : Try.prog.cellsOf 9 = 1 := by kernel_rfl
  simp [Program.keyLits, Try.underlying44, Try.underlying9, hk, h.1, h.2, Value.formed, Value.cells, c1, c2, litF]

theorem litF_inj {f g : Fld} (hf : fitsF f) (hg : fitsF g) (e : litF f = litF g) : f = g := by
  have h := field_keyed.inj (key_field f hf) (by rw [e]; exact key_field g hg)
  simp at h
  exact Prod.ext h.1 h.2

theorem litT_inj {x y : ByteArray} (e : litT x = litT y) : x = y := by
  have h : x.data.toList = y.data.toList := by
    have := e
    unfold litT at this
    injection this
  have h' : x.data = y.data := Array.toList_inj.1 h
  cases x; cases y; simp at h'; rw [h']

/-- The map D tells the least place of each key, plus 1, among those from j on. -/
def Num {κ : Type} (K : List κ) (lit : κ → Lit) (ok : κ → Prop) (j : Nat) (D : DataW Unit) : Prop := Maps.IsMap D ∧ ∀ x, ok x →
  (∃ i, j ≤ i ∧ K[i]? = some x ∧ (∀ i', j ≤ i' → i' < i → K[i']? ≠ some x) ∧ Maps.has D (lit x) = true ∧ ∀ z, D.atKey (lit x) z = .lit (.int .i64 ((i : Int) + 1))) ∨
  ((∀ i, j ≤ i → K[i]? ≠ some x) ∧ Maps.has D (lit x) = false ∧ ∀ z, D.atKey (lit x) z = z)

theorem Num.start {κ : Type} (K : List κ) (lit : κ → Lit) (ok : κ → Prop) : Num K lit ok K.length (.map []) := by
  refine ⟨Maps.isMap_empty, fun x hx => .inr ⟨fun i hi => ?_, rfl, fun z => rfl⟩⟩
  rw [List.getElem?_eq_none hi]
  simp

theorem Num.step {κ : Type} {K : List κ} {lit : κ → Lit} {ok : κ → Prop} {j : Nat} {D : DataW Unit} (h : Num K lit ok (j + 1) D) (y : κ) (hy : K[j]? = some y) (hk : WideAt.IsKeyLit (lit y)) (inj : ∀ x, ok x → lit x = lit y → x = y) :
    Num K lit ok j (D.put (lit y) (.lit (.int .i64 ((j : Int) + 1)))) := by
  refine ⟨h.1.put _ _, fun x hx => ?_⟩
  by_cases e : x = y
  · subst e
    exact .inl ⟨j, Nat.le_refl _, hy, fun i' h1 h2 => by omega, Maps.has_put_same h.1 hk _, fun z => Maps.atKey_put_same h.1 hk _ _⟩
  · have hne : lit x ≠ lit y := fun h => e (inj x hx h)
    rcases h.2 x hx with ⟨i, h1, h2, h3, h4, h5⟩ | ⟨h1, h2, h3⟩
    · refine .inl ⟨i, by omega, h2, fun i' g1 g2 => ?_, (Maps.has_put_other hne _).trans h4, fun z => (Maps.atKey_put_other hne _ _).trans (h5 z)⟩
      by_cases g : i' = j
      · rw [g, hy]
        intro c
        injection c with c
        exact e c.symm
      · exact h3 i' (by omega) g2
    · refine .inr ⟨fun i hi => ?_, (Maps.has_put_other hne _).trans h2, fun z => (Maps.atKey_put_other hne _ _).trans (h3 z)⟩
      by_cases g : i = j
      · rw [g, hy]
        intro c
        injection c with c
        exact e c.symm
      · exact h1 i (by omega)

end Go.Proofs.Ytghakpcagacdaal
