/- The library's iterator Backward over fields: from the last one on. A loop over an iterator whose variable is a struct of its own in each round (Turns has the loops over plain variables). No program in it. Maps whose keys are fields, or texts: how a key reads; the least number of each key, from a place on. The program's first fields: an array by value, whose parts are never walked one by one. The program's numbers of all fields: two maps, filled from the last field on. -/
import Derived.RangeFuncBound
import Derived.RangeFuncCalls
import Derived.Shelf.Abstract
import Derived.Shelf.RegionOpen
import Derived.OwnWalkIn
import Derived.TacticsInMore
import Derived.LoopNIn
import Derived.LoopIn
import Derived.Test.YtckpacifimpkgacGreatM04
import Derived.Test.YtckpacifimpkgacGreatM07
import Derived.Test.YtckpacifimpkgacGreatM04
import Derived.Maps.Views
import Derived.Maps.Own
import Derived.Maps.OwnSet
import Derived.DeepKeys4
import Derived.Laws.Rows
import Derived.Laws.Tables
import Derived.Deep.WholeRow
import Derived.Maps.OwnIn
import Derived.Deep.RegionWith
import Derived.Test.YtckpacifimpkgacGreatM09
import Derived.Test.YtckpacifimpkgacGreatM08
namespace Go.Proofs.YtckpacifimpkgacGreat
open Go.RowKit Go.Shelf
set_option linter.unusedVariables false
attribute [local go_sem] Oper.semAt_some

/-- What a round is handed: the place, and the field there. -/
abbrev encB (xs : List Fld) (k : Nat) : Array Value := #[.int .i64 (k : Int), .agg #[.string (xs.getD k (⟨#[]⟩, ⟨#[]⟩)).1, .string (xs.getD k (⟨#[]⟩, ⟨#[]⟩)).2]]

set_option maxRecDepth 100000 in
set_option maxHeartbeats 1000000 in
theorem back_iter (n B Bb : Nat) (a : Option Addr) (len cap : Nat) (xs : List Fld) (hn : 1 ≤ n) (hl : len ≤ 2097300) (hxl : xs.length = len) (I0 I1 : Nat → World → Prop) (Ix : Code → Nat → World → Prop) (Ie : Nat → World → Prop) (Ib : World → Prop)
    (hb : ∀ W, Ib W → Boxed W Bb 24 (.slice a len cap) ∧ (0 < len → I0 (len - 1) W) ∧ (len = 0 → Ie 0 W))
    (h0 : ∀ k W, I0 k W → k < len ∧ Boxed W Bb 24 (.slice a len cap) ∧ Flds W a len xs)
    (h1 : ∀ k W, I1 k W → (0 < k → I0 (k - 1) W) ∧ (k = 0 → Ie 0 W)) :
    Iter Fence.wide n Tryz.prog B 89 #[.pointer (some ⟨Bb, 0, none⟩)] (encB xs) I0 I1 Ix Ie Ib := by
  intro l L0 L1 k0 k1 hY W hi hl0
  obtain ⟨hbx, hi0, hi1⟩ := hb W hi
  have hc := hbx.cell
  clear hb hi hbx
  refine callsIn_of_wp Tryz.func89 rfl trivial ?_ rfl
  simp only [Tryz.ntmps89, List.size_toArray, List.length_cons, List.length_nil, Nat.reduceAdd, Nat.reduceSub, Array.replicate_succ, Array.replicate_zero, List.push_toArray, List.append_toArray, List.nil_append, List.cons_append]
  gi_wp2
  gi_loopw [3] (fun i wr => ∃ k : Nat, k ≤ len ∧ i = .int .i64 ((k : Int) - 1) ∧ (0 < k → I0 (k - 1) wr) ∧ (k = 0 → Ie 0 wr) ∧ L0 wr) (fun i _ => (intOf i + 1).toNat)
  case atStart => exact ⟨len, Nat.le_refl _, rfl, hi0, hi1, hl0⟩
  case round =>
    clear hi0 hi1 hl0 hc
    obtain ⟨k, hk, rfl, hI, hE, hL⟩ := hrel
    cases k with
    | zero =>
      have he := hE rfl
      gi_wp2
      go_end0
      exact ⟨⟨_, rfl⟩, .inl ⟨⟨_, he⟩, hL⟩⟩
    | succ j =>
      have hs := hI (Nat.succ_pos _)
      rw [Nat.add_sub_cancel] at hs
      obtain ⟨hj, hbx, hfl⟩ := h0 _ _ hs
      obtain ⟨fn, tmps, assign, body, hy, hR⟩ := hY _ wr hs hL
      obtain ⟨b, off, x, y, rfl, hb, hfx, hc0, hc1⟩ := hfl.at hj
      have hc := hbx.cell
      have ex : xs.getD j (⟨#[]⟩, ⟨#[]⟩) = (x, y) := by rw [List.getD_eq_getElem?_getD, hfx]; rfl
      simp only [encB, ex] at hy
      have hji : ((j + 1 : Nat) : Int) - 1 = (j : Int) := by omega
      have hjl : (j : Int) < (len : Int) := by omega
      rw [hji]
      clear hfl hfx hbx
      gi_wp2
      refine hR.mono ?_
      clear hR hy hc0 hc1 hc hs hL hI hE
      rintro e W3 (⟨rfl, h3, l3⟩ | ⟨rfl, c, h3, l3⟩)
      · obtain ⟨j0, j1⟩ := h1 _ _ h3
        gi_wp2
        go_roundw
        case rel => exact ⟨j, by omega, by go_num, j0, j1, l3⟩
        case measure => simp [intOf]
      · gi_wp2
        refine bodyPost_ret (results_none rfl _ _ _) rfl ?_
        exact ⟨⟨_, rfl⟩, .inr ⟨c, _, h3, l3⟩⟩

set_option maxHeartbeats 400000 in
theorem backward_any (a : Option Addr) (len cap : Nat) (w : World) (n : Nat) :
    CallsIn Fence.wide n Tryz.prog 73 #[.slice a len cap] w fun e w' => e = .returned (.func (.func 89) #[] #[.pointer (some ⟨w.heap.size, 0, none⟩)]) ∧ w' = w.alloc (.cells #[.slice a len cap] 24) := by
  refine callsIn_of_wp Tryz.func73 rfl trivial ?_ rfl
  simp only [Tryz.ntmps73, List.size_toArray, List.length_cons, List.length_nil, Nat.reduceAdd, Nat.reduceSub, Array.replicate_succ, Array.replicate_zero, List.push_toArray, List.append_toArray, List.nil_append, List.cons_append]
  gi_wp2
  go_ret
  exact ⟨rfl, rfl⟩

end Go.Proofs.YtckpacifimpkgacGreat

namespace Go.Proofs.YtckpacifimpkgacGreat
open Go.RowKit
set_option linter.unusedVariables false

variable {F : Fence} {n : Nat} {P : Program}

theorem Two.alloc {l D : Nat} {r : Loop} {W : World} (h : Two l D r W) (o : Obj) : Two l D r (W.alloc o) :=
  ⟨(Below.heap_alloc _ _ _ (Array.getElem?_eq_some_iff.1 h.1).1).trans h.1, (Below.heap_alloc _ _ _ (Array.getElem?_eq_some_iff.1 h.2).1).trans h.2⟩

theorem putObj_alloc (W : World) (l : Nat) (x o : Obj) (h : l < W.heap.size) : (W.alloc o).putObj l x = (W.putObj l x).alloc o := by
  unfold World.putObj World.alloc
  have e : (W.heap.push o).setIfInBounds l x = (W.heap.setIfInBounds l x).push o := by
    apply Array.ext_getElem?
    intro i
    simp only [Array.getElem?_setIfInBounds, Array.getElem?_push, Array.size_push, Array.size_setIfInBounds]
    by_cases h1 : l = i
    · subst h1
      have : ¬ l = W.heap.size := by omega
      simp [h, this]
      omega
    · simp [h1]
  simp only [e]

/-- One round, from its body's walk. -/
theorem round_turn_var {m l D B : Nat} {r : Loop} {args : Array Value} {W V0 : World} {G : World → Prop} {X : Code → World → Prop} {a1 : Act} (hF : F.fn r.fn) (hst : r.state = .ready) (hpe : r.pending = none) (h0 : Two l D r W) (h : Two l D r V0) (hne : l ≠ D) (hl : B ≤ l) (hD : B ≤ D) (hs : args.size = r.params.size)
    (hassign : ∀ K : Act → World → Prop, K a1 V0 → r.assign.wpIn (F.inRound l) m P (Exit.then K (fun _ _ _ => False)) { tmps := (r.params.zip args).foldl (fun t (p, v) => t.setIfInBounds p v) r.tmps, defers := [] } W)
    (hbody : r.body.wpIn (F.inRound l) m P (leaves B (V0.putObj l (.loop { r with state := .busy })) G X) a1 (V0.putObj l (.loop { r with state := .busy }))) :
    YieldAt F m P l args W fun e W' => (e = .returned (.bool true) ∧ ∃ V, G V ∧ Two l D { r with state := .busy } V ∧ W' = V.putObj l (.loop r)) ∨
      (e = .returned (.bool false) ∧ ∃ c V, X c V ∧ Two l D { r with state := .busy } V ∧ W' = V.putObj l (.loop { r with state := .done, pending := some c })) := by
  have hb := h.turn hne { r with state := .busy }
  have er : ({ r with state := .ready, pending := none } : Loop) = r := by cases r; simp only at hst hpe; subst hst hpe; rfl
  have out : ∀ (c : Code) (V : World), KeepsFrom B (V0.putObj l (.loop { r with state := .busy })) V → X c V → ∃ v W', (Instr.endRound l (some c)).run P V = .ok v W' ∧
      ((Ending.returned v = .returned (.bool true) ∧ ∃ V, G V ∧ Two l D { r with state := .busy } V ∧ W' = V.putObj l (.loop r)) ∨
       (Ending.returned v = .returned (.bool false) ∧ ∃ c V, X c V ∧ Two l D { r with state := .busy } V ∧ W' = V.putObj l (.loop { r with state := .done, pending := some c }))) := fun c V k x =>
    ⟨_, _, run_endRound (some c) (hb.keep hl hD k).1, .inr ⟨rfl, c, V, x, hb.keep hl hD k, rfl⟩⟩
  refine ⟨r.fn, _, r.assign, r.body, run_yield h0.1 hs, roundIn_of_wpIn hF (hassign _ ⟨_, run_beginRound h.1 hst, wpIn_mono hbody ?_⟩)⟩
  intro e a3 V hV
  cases e with
  | normal => exact ⟨_, _, run_endRound none (hb.keep hl hD hV.1).1, .inl ⟨rfl, V, hV.2, hb.keep hl hD hV.1, congrArg (fun q => V.putObj l (.loop q)) er⟩⟩
  | ret => exact out _ V hV.1 hV.2
  | exit i => exact out _ V hV.1 hV.2
  | goto t => exact out _ V hV.1 hV.2
  | panic c => exact hV.elim
  | outgrown => exact hV.elim

theorem loop_turns_var {σ : Type} {g : Operand} {ps : Array Tmp} {assign body : Code} {Q : Exit → Act → World → Prop} {a : Act} {w : World}
    (hro : F.round = none) (h1 : 1 ≤ n) {gf : Nat} {lb : Array Value} (hg : a.eval g = .func (.func gf) #[] lb) (hFg : F.fn gf) (eg : ∀ args w, (callFunc gf args).run P w = .ok (.enter gf args) w)
    (enc : σ → Array Value) (hps : ∀ s, (enc s).size = ps.size) (I0 I1 : σ → World → Prop) (Ix : Code → σ → World → Prop) (Ie : σ → World → Prop) (Ib : World → Prop)
    (hiter : Iter F (n - 1) P w.heap.size gf lb enc I0 I1 Ix Ie Ib)
    (o0 : OwnFrom w.heap.size I0) (o1 : OwnFrom w.heap.size I1) (ox : ∀ c, OwnFrom w.heap.size (Ix c)) (oe : OwnFrom w.heap.size Ie) (ob : OwnFrom w.heap.size (fun (_ : Unit) W => Ib W)) (hs0 : Ib w) (o : σ → Obj) (a₁ : σ → Nat → Act)
    (hassign : ∀ (l : Nat) (s : σ) (W : World) (q : Nat), W.heap.size = q → ∀ (K : Act → World → Prop), K (a₁ s q) (W.alloc (o s)) → assign.wpIn (F.inRound l) (n - 1 - 1) P (Exit.then K (fun _ _ _ => False)) { tmps := (ps.zip (enc s)).foldl (fun t (p, v) => t.setIfInBounds p v) a.tmps, defers := [] } W)
    (hbody : ∀ (l : Nat) (s : σ) (W : World), I0 s W → w.heap.size ≤ W.heap.size → body.wpIn (F.inRound l) (n - 1 - 1) P (leaves w.heap.size (W.alloc (o s)) (I1 s) (fun c => Ix c s)) (a₁ s W.heap.size) (W.alloc (o s)))
    (hdone : ∀ (D : Nat) (s : σ) (W : World), w.heap.size ≤ D → Ie s W → W.heap[D]? = some (.deferred (some [])) → Q .normal { a with defers := { target := .collected D, args := #[] } :: a.defers } W)
    (hstop : ∀ (D : Nat) (c : Code) (s : σ) (W : World), w.heap.size ≤ D → Ix c s W → W.heap[D]? = some (.deferred (some [])) → c.wpIn F n P Q { a with defers := { target := .collected D, args := #[] } :: a.defers } W) :
    (Code.rangeFunc g ps assign body).wpIn F n P Q a w := by
  refine wpIn_rangeFunc fun fn hfn => ?_
  rw [hro]
  obtain ⟨r, hr⟩ : ∃ r : Loop, ({ state := .ready, pending := none, fn, tmps := a.tmps, params := ps, assign, body, defers := w.heap.size } : Loop) = r := ⟨_, rfl⟩
  have hen := run_enterLoop_outer (P := P) (w := w) fn a.tmps ps assign body
  rw [hr] at hen
  have t1 : Two (w.heap.size + 1) w.heap.size r ((w.alloc (.deferred (some []))).alloc (.loop r)) := by
    refine ⟨?_, (Below.heap_alloc _ _ _ (by simp)).trans (World.alloc_heap_new w _)⟩
    have := World.alloc_heap_new (w.alloc (.deferred (some []))) (.loop r)
    rwa [World.size_alloc] at this
  obtain ⟨W1, hW⟩ : ∃ W1, (w.alloc (.deferred (some []))).alloc (.loop r) = W1 := ⟨_, rfl⟩
  have hs1 : Ib W1 := by rw [← hW]; exact ob.alloc (s := ()) _ (ob.alloc (s := ()) _ hs0)
  rw [hW] at hen t1
  refine ⟨w.heap.size + 1, [{ target := .collected w.heap.size, args := #[] }], W1, { target := .fn (.func gf) lb, args := #[.func (.yield (w.heap.size + 1)) #[] #[]] }, W1, gf, #[.func (.yield (w.heap.size + 1)) #[] #[]] ++ lb, W1, hen, ?_, ?_, ?_, fun _ => h1, ?_⟩
  · simp only [resolve, hg]
    simp [go_sem]
  · intro f' hf'
    simp [Target.leads] at hf'
    exact hf' ▸ hFg
  · simp [invoke, go_sem, eg]
  · refine (hiter (w.heap.size + 1) (Two (w.heap.size + 1) w.heap.size r) (fun c => Two (w.heap.size + 1) w.heap.size { r with state := .done, pending := some c })
      (fun V V' h k => h.keep (by omega) (Nat.le_refl _) k) (fun c V V' h k => h.keep (by omega) (Nat.le_refl _) k) ?_ W1 hs1 t1).mono ?_
    · intro s W hi ht
      have hb : I0 s (W.putObj (w.heap.size + 1) (.loop { r with state := .busy })) := o0.putObj _ hi (by omega) ht.1 rfl
      have hlt : w.heap.size + 1 < W.heap.size := (Array.getElem?_eq_some_iff.1 ht.1).1
      have hcm : (W.alloc (o s)).putObj (w.heap.size + 1) (.loop { r with state := .busy }) = (W.putObj (w.heap.size + 1) (.loop { r with state := .busy })).alloc (o s) := putObj_alloc _ _ _ _ hlt
      have hsz : (W.putObj (w.heap.size + 1) (.loop { r with state := .busy })).heap.size = W.heap.size := by simp [World.putObj]
      obtain ⟨fn', tm, asg, bo, hy, hR⟩ := round_turn_var (P := P) (m := n - 1 - 1) (B := w.heap.size) (V0 := W.alloc (o s)) (a1 := a₁ s W.heap.size) (args := enc s) (G := I1 s) (X := fun c => Ix c s) (by rw [← hr]; exact hfn) (by rw [← hr]) (by rw [← hr]) ht (ht.alloc _) (by omega) (by omega) (Nat.le_refl _) (by rw [← hr]; exact hps s)
        (by rw [← hr]; exact fun K hK => hassign _ s W _ rfl K hK) (by have := hbody (w.heap.size + 1) s _ hb (by rw [hsz]; omega); rw [hsz] at this; rw [hcm]; rw [← hr]; rw [← hr] at this; exact this)
      refine ⟨fn', tm, asg, bo, hy, hR.mono ?_⟩
      rintro e W' (⟨rfl, V, hG, hT, rfl⟩ | ⟨rfl, c, V, hX, hT, rfl⟩)
      · exact .inl ⟨rfl, o1.putObj _ hG (by omega) hT.1 rfl, hT.turn (by omega) _⟩
      · exact .inr ⟨rfl, c, (ox c).putObj _ hX (by omega) hT.1 rfl, hT.turn (by omega) _⟩
    · rintro e W' ⟨⟨v, rfl⟩, ⟨s, hi, ht⟩ | ⟨c, s, hi, ht⟩⟩
      · refine ⟨_, _, run_endLoop ht.1 (by rw [← hr]; simp), ?_⟩
        have := hdone w.heap.size s _ (Nat.le_refl _) (oe.putObj (.loop { r with state := .exhausted }) hi (by omega) ht.1 rfl) ((World.putObj_heap_other (by omega)).trans ht.2)
        rw [← hr] at this ⊢
        exact this
      · refine ⟨_, _, run_endLoop ht.1 (by simp), ?_⟩
        exact hstop w.heap.size c s _ (Nat.le_refl _) ((ox c).putObj _ hi (by omega) ht.1 rfl) ((World.putObj_heap_other (by omega)).trans ht.2)

end Go.Proofs.YtckpacifimpkgacGreat

namespace Go.Proofs.YtckpacifimpkgacGreat
open Go.RowKit
set_option linter.unusedVariables false

theorem prog_laid : laidOutB Tryz.prog = true := by kernel_rfl

theorem field_keyed : Maps.Keyed Tryz.prog 43 := .of_law (deep_law_laid prog_laid (m := 3) (by omega) (of_decide_eq_true (by kernel_rfl)) (by kernel_rfl) (by kernel_rfl))

theorem text_keyed : Maps.Keyed Tryz.prog 9 := Maps.string_keyed Tryz.underlying9

/-- What a field reads as, as a key. -/
def litF (f : Fld) : Lit := .string (keyBytes [.string f.1.data.toList, .string f.2.data.toList])
def litT (x : ByteArray) : Lit := .string x.data.toList
abbrev fitsF (f : Fld) : Prop := f.1.size ≤ maxLen ∧ f.2.size ≤ maxLen

theorem key_field (f : Fld) (h : fitsF f) : keyOf Tryz.prog 43 (.agg #[.string f.1, .string f.2]) = some (litF f) := by
  have hk : Tryz.prog.keyType 43 = true := by kernel_rfl
  obtain ⟨n, hn⟩ : ∃ n, Tryz.prog.types.size + 1 = n + 2 := ⟨Tryz.prog.types.size - 1, by kernel_rfl⟩
  unfold keyOf
  rw [Tryz.underlying43, hn]
  have c2 : Tryz.prog.cellsOf 43 = 2 := by kernel_rfl
  have c1 : Tryz.prog.cellsOf 9 = 1 := by kernel_rfl
  simp [Program.keyLits, Tryz.underlying43, Tryz.underlying9, hk, h.1, h.2, Value.formed, Value.cells, c1, c2, litF]

theorem litF_inj {f g : Fld} (hf : fitsF f) (hg : fitsF g) (e : litF f = litF g) : f = g := by
  have h := field_keyed.inj (key_field f hf) (by rw [e]; exact key_field g hg)
  simp at h
  exact Prod.ext h.1 h.2

theorem litT_inj {x y : ByteArray} (e : litT x = litT y) : x = y := by
  have h : x.data.toList = y.data.toList := by
    have := e
    unfold litT at this
    injection this
  have h' : x.data = y.data := Array.toList_inj.1 h
  cases x; cases y; simp at h'; rw [h']

/-- The map D tells the least place of each key, plus 1, among those from j on. -/
def Num {κ : Type} (K : List κ) (lit : κ → Lit) (ok : κ → Prop) (j : Nat) (D : DataW Unit) : Prop := Maps.IsMap D ∧ ∀ x, ok x →
  (∃ i, j ≤ i ∧ K[i]? = some x ∧ (∀ i', j ≤ i' → i' < i → K[i']? ≠ some x) ∧ Maps.has D (lit x) = true ∧ ∀ z, D.atKey (lit x) z = .lit (.int .i64 ((i : Int) + 1))) ∨
  ((∀ i, j ≤ i → K[i]? ≠ some x) ∧ Maps.has D (lit x) = false ∧ ∀ z, D.atKey (lit x) z = z)

theorem Num.start {κ : Type} (K : List κ) (lit : κ → Lit) (ok : κ → Prop) : Num K lit ok K.length (.map []) := by
  refine ⟨Maps.isMap_empty, fun x hx => .inr ⟨fun i hi => ?_, rfl, fun z => rfl⟩⟩
  rw [List.getElem?_eq_none hi]
  simp

theorem Num.step {κ : Type} {K : List κ} {lit : κ → Lit} {ok : κ → Prop} {j : Nat} {D : DataW Unit} (h : Num K lit ok (j + 1) D) (y : κ) (hy : K[j]? = some y) (hk : WideAt.IsKeyLit (lit y)) (inj : ∀ x, ok x → lit x = lit y → x = y) :
    Num K lit ok j (D.put (lit y) (.lit (.int .i64 ((j : Int) + 1)))) := by
  refine ⟨h.1.put _ _, fun x hx => ?_⟩
  by_cases e : x = y
  · subst e
    exact .inl ⟨j, Nat.le_refl _, hy, fun i' h1 h2 => by omega, Maps.has_put_same h.1 hk _, fun z => Maps.atKey_put_same h.1 hk _ _⟩
  · have hne : lit x ≠ lit y := fun h => e (inj x hx h)
    rcases h.2 x hx with ⟨i, h1, h2, h3, h4, h5⟩ | ⟨h1, h2, h3⟩
    · refine .inl ⟨i, by omega, h2, fun i' g1 g2 => ?_, (Maps.has_put_other hne _).trans h4, fun z => (Maps.atKey_put_other hne _ _).trans (h5 z)⟩
      by_cases g : i' = j
      · rw [g, hy]
        intro c
        injection c with c
        exact e c.symm
      · exact h3 i' (by omega) g2
    · refine .inr ⟨fun i hi => ?_, (Maps.has_put_other hne _).trans h2, fun z => (Maps.atKey_put_other hne _ _).trans (h3 z)⟩
      by_cases g : i = j
      · rw [g, hy]
        intro c
        injection c with c
        exact e c.symm
      · exact h1 i (by omega)

end Go.Proofs.YtckpacifimpkgacGreat

namespace Go.Proofs.YtckpacifimpkgacGreat
open Go.RowKit
set_option linter.unusedVariables false

/-- Operations that make these fields, in the slots from k on. -/
def Builds (t : TypeId) : Nat → List Oper → List Fld → Prop
  | _, [], [] => True
  | k, o :: os, f :: fs => o.guard = none ∧ o.dst = some k ∧ o.op = .build t #[(0, .const (.string f.1)), (1, .const (.string f.2))] ∧ Builds t (k + 1) os fs
  | _, _, _ => False

def putAll : Array Value → Nat → List Fld → Array Value
  | T, _, [] => T
  | T, k, f :: fs => putAll (T.setIfInBounds k (.agg #[.string f.1, .string f.2])) (k + 1) fs

theorem wpList_builds {P : Program} {ops : Array Oper} {rest : List Oper} {w : World} {Q : Exit → Act → World → Prop} {t : TypeId} (hbt : ∀ x y, P.built t [(0, .string x), (1, .string y)] = some #[.string x, .string y]) :
    ∀ (os : List Oper) (L : List Fld) (k : Nat) (a : Act), Builds t k os L → wpList P ops Q rest { a with tmps := putAll a.tmps k L } w → wpList P ops Q (os ++ rest) a w := by
  intro os
  induction os with
  | nil =>
    intro L k a hb h
    cases L with
    | nil => exact h
    | cons f fs => exact hb.elim
  | cons o os ih =>
    intro L k a hb h
    cases L with
    | nil => exact hb.elim
    | cons f fs =>
      obtain ⟨hg, hd, ho, hb⟩ := hb
      have e : P.built t ((#[(0, Operand.const (.string f.1)), (1, Operand.const (.string f.2))] : Array (Nat × Operand)).map fun (i, x) => (i, a.eval x)).toList = some #[.string f.1, .string f.2] := by
        simp only [List.map_toArray, List.map_cons, List.map_nil]
        exact hbt f.1 f.2
      refine wpList_build hg t _ ho (by rw [e]; rfl) ?_
      rw [e, hd]
      exact ih fs (k + 1) _ hb h

/-- The body of a function that answers a literal of an array of fields. -/
def fldsBody (t : TypeId) (ops : Array Oper) (p0 : String) : Code :=
  (Code.region 0 #[{ dst := some 0, op := .alloc t, type := 0, pos := p0, after := #[], guard := none }] false).seq ((Code.region 1 ops false).seq .ret)

theorem flds_calls {P : Program} {f : FuncId} {fn : Func} (hf : P.funcs[f]? = some fn) (t u e : TypeId) (n m : Nat) (L : List Fld) (p0 : String) (ops : Array Oper) (os : List Oper) (ob ostore : Oper) (parts : Array (Nat × Operand)) (cells z : Array Value)
    (hb : fn.body = some (fldsBody t ops p0)) (hn : fn.ntmps = m) (hr : fn.results = #[.cell 0 t])
    (hops : ops.toList = os ++ [ob, ostore]) (hB : Builds u 1 os L) (hob : ob.op = .build t parts) (hog : ob.guard = none) (hod : ob.dst = some (L.length + 1)) (hos : ostore.op = .store t (.tmp 0) (.tmp (L.length + 1))) (hsg : ostore.guard = none) (hsd : ostore.dst = none)
    (hbt : ∀ x y, P.built u [(0, .string x), (1, .string y)] = some #[.string x, .string y])
    (hu : P.underlying t = some (.array n e)) (hz : ∀ w, (zeroValue t).run P w = .ok (.agg z) w) (hsz : z.size = cells.size) (hi : (P.info? t).map (·.size) = some cells.size)
    (h1 : cells.all (·.oneCell') = true) (hpt : ∀ v : Value, (putAll ((Array.replicate m undef).setIfInBounds 0 v) 1 L)[0]? = some v) (hsl : ∀ v : Value, L.length + 1 < (putAll ((Array.replicate m undef).setIfInBounds 0 v) 1 L).size)
    (hbig : ∀ v : Value, P.built t (parts.map fun (i, x) => (i, ({ tmps := putAll ((Array.replicate m undef).setIfInBounds 0 v) 1 L, defers := [] } : Act).eval x)).toList = some cells) (w : World) :
    Calls P f #[] w fun e w' => e = .returned (.agg cells) ∧ w' = w.alloc (.cells cells t) := by
  refine calls_of_wp hf hb ?_
  unfold fldsBody
  rw [hn]
  have e0 : (#[] ++ Array.replicate (m - (#[] : Array Value).size) undef : Array Value) = Array.replicate m undef := by simp
  rw [e0]
  go_wp2_with fail
  refine wpList_builds hbt os L 1 _ hB ?_
  refine wpList_build hog t parts hob (by rw [hbig]; rfl) ?_
  rw [hbig, hod, Option.getD_some]
  have hlt := hsl (Value.pointer (some { block := w.heap.size, off := 0 }))
  have hp0 := hpt (Value.pointer (some { block := w.heap.size, off := 0 }))
  generalize putAll ((Array.replicate m undef).setIfInBounds 0 (Value.pointer (some { block := w.heap.size, off := 0 }))) 1 L = T at *
  have hx : (T.setIfInBounds (L.length + 1) (.agg cells)).getD 0 undef = .pointer (some ⟨w.heap.size, 0, none⟩) := by
    rw [Array.getD_eq_getD_getElem?, Array.getElem?_setIfInBounds_ne (by omega), hp0]
    rfl
  have hy : (T.setIfInBounds (L.length + 1) (.agg cells)).getD (L.length + 1) undef = .agg cells := by
    rw [Array.getD_eq_getD_getElem?, Array.getElem?_setIfInBounds_self_of_lt hlt]
    rfl
  refine wpList_store_row hsg t _ _ hos w.heap.size cells hx hy t z (heap_alloc_last w _) hi hsz h1 ?_
  rw [World.setRow_alloc_new, hsd]
  go_wp2_with fail
  exact bodyPost_ret (results_cell_row hr _ _ w.heap.size t cells (0, 0) _ hx (heap_alloc_last w _) hu rfl hi) rfl ⟨rfl, rfl⟩

theorem Tryz.infoF : (Tryz.prog.info? 111).map (fun i => (i.zero, i.size)) = some (some (.agg (Array.replicate 122 (.string ⟨#[]⟩))), 122) := by kernel_rfl

theorem firstCells_len : (fieldCells firstL).toArray.size = 122 := by decide +kernel
theorem firstCells_one : (fieldCells firstL).toArray.all (·.oneCell') = true := by kernel_rfl

set_option maxRecDepth 100000 in
theorem implFirst_any (w : World) : Calls Tryz.prog 71 #[] w fun e w' => e = .returned (.agg (fieldCells firstL).toArray) ∧ w' = w.alloc (.cells (fieldCells firstL).toArray 111) := by
  refine flds_calls Tryz.func71 111 43 43 61 63 firstL _ _ _ _ _ _ (fieldCells firstL).toArray (Array.replicate 122 (.string ⟨#[]⟩))
    (hb := rfl) (hn := rfl) (hr := rfl) (hops := (rfl : _ = [_, _, _, _, _, _, _, _, _, _, _, _, _, _, _, _, _, _, _, _, _, _, _, _, _, _, _, _, _, _, _, _, _, _, _, _, _, _, _, _, _, _, _, _, _, _, _, _, _, _, _, _, _, _, _, _, _, _, _, _, _] ++ [_, _])) (hB := ⟨rfl, rfl, rfl, rfl, rfl, rfl, rfl, rfl, rfl, rfl, rfl, rfl, rfl, rfl, rfl, rfl, rfl, rfl, rfl, rfl, rfl, rfl, rfl, rfl, rfl, rfl, rfl, rfl, rfl, rfl, rfl, rfl, rfl, rfl, rfl, rfl, rfl, rfl, rfl, rfl, rfl, rfl, rfl, rfl, rfl, rfl, rfl, rfl, rfl, rfl, rfl, rfl, rfl, rfl, rfl, rfl, rfl, rfl, rfl, rfl, rfl, rfl, rfl, rfl, rfl, rfl, rfl, rfl, rfl, rfl, rfl, rfl, rfl, rfl, rfl, rfl, rfl, rfl, rfl, rfl, rfl, rfl, rfl, rfl, rfl, rfl, rfl, rfl, rfl, rfl, rfl, rfl, rfl, rfl, rfl, rfl, rfl, rfl, rfl, rfl, rfl, rfl, rfl, rfl, rfl, rfl, rfl, rfl, rfl, rfl, rfl, rfl, rfl, rfl, rfl, rfl, rfl, rfl, rfl, rfl, rfl, rfl, rfl, rfl, rfl, rfl, rfl, rfl, rfl, rfl, rfl, rfl, rfl, rfl, rfl, rfl, rfl, rfl, rfl, rfl, rfl, rfl, rfl, rfl, rfl, rfl, rfl, rfl, rfl, rfl, rfl, rfl, rfl, rfl, rfl, rfl, rfl, rfl, rfl, rfl, rfl, rfl, rfl, rfl, rfl, rfl, rfl, rfl, rfl, rfl, rfl, rfl, rfl, rfl, rfl, rfl, rfl, rfl, rfl, rfl, rfl, rfl, rfl, trivial⟩) (hob := rfl) (hog := rfl) (hod := rfl) (hos := rfl) (hsg := rfl) (hsd := rfl) (hbt := fun _ _ => rfl) (hu := Tryz.underlying111) (hz := (zero_of_info Tryz.infoF).1) (hsz := by decide +kernel) (hi := ?_) (h1 := firstCells_one) (hpt := fun v => by kernel_rfl) (hsl := fun v => of_decide_eq_true (by kernel_rfl)) (hbig := fun v => by kernel_rfl) w
  rw [firstCells_len]
  exact (zero_of_info Tryz.infoF).2

end Go.Proofs.YtckpacifimpkgacGreat

namespace Go.Proofs.YtckpacifimpkgacGreat
open Go.RowKit Go.Shelf
set_option linter.unusedVariables false
attribute [local go_sem] Oper.semAt_some

/-- A piece of code that only goes on. -/
def onNormal (G : Act → World → Prop) : Exit → Act → World → Prop
  | .normal, a, W => G a W
  | _, _, _ => False
theorem onNormal_out {G : Act → World → Prop} {e : Exit} {a : Act} {W : World} (h : onNormal G e a W) : e = .normal ∧ G a W := by
  cases e with
  | normal => exact ⟨rfl, h⟩
  | _ => exact h.elim

theorem run_made {P : Program} {t k e : TypeId} (h : P.underlying t = some (.map k e)) (n : Int) (w : World) : (Instr.makeMap t (some (.int .i64 n))).run P w = .ok (.map (some w.heap.size)) (w.alloc (.map #[] 0)) := by
  simp [Instr.makeMap, run_underlying h, asInt, asIntOf, newObj]
  rfl

theorem wpList_store_new {P : Program} {ops : Array Oper} {rest : List Oper} {o : Oper} {a : Act} {w : World} {Q : Exit → Act → World → Prop} (hgd : o.guard = none) (t : TypeId) (x y : Operand) (ho : o.op = .store t x y)
    (cells : Array Value) {old : Array Value} (hx : a.eval x = .pointer (some ⟨w.heap.size, 0, none⟩)) (hy : a.eval y = .agg cells) (hi : (P.info? t).map (·.size) = some cells.size)
    (hold : old.size = cells.size) (h1 : cells.all (·.oneCell') = true) (h : wpList P ops Q rest (a.put o.dst undef) (w.alloc (.cells cells t))) : wpList P ops Q (o :: rest) a (w.alloc (.cells old t)) := by
  refine wpList_store_row hgd t x y ho w.heap.size cells hx hy t old (heap_alloc_last w _) hi hold h1 ?_
  rw [World.setRow_alloc_new]
  exact h

/-- What holds in the loop: the two maps tell the numbers from j on. -/
structure NumInv (w0 : World) (h Bb p1 p2 b1 b2 : Nat) (ad : Addr) (N cap : Nat) (L : List Fld) (j : Nat) (W : World) : Prop where
  box : Boxed W Bb 24 (.slice (some ad) N cap)
  fl : Flds W (some ad) N L
  lt : ad.block < W.heap.size
  m1 : Boxed W p1 94 (.map (some b1))
  m2 : Boxed W p2 95 (.map (some b2))
  d : ∃ D1 D2, W.ownsMap Tryz.prog 43 (plainElem Tryz.prog 3) b1 (N - j) D1 ∧ W.ownsMap Tryz.prog 9 (plainElem Tryz.prog 3) b2 (N - j) D2 ∧ Num L litF fitsF j D1 ∧ Num (L.map (·.1)) litT (fun x => x.size ≤ maxLen) j D2
  bel : Below h w0 W

theorem flds_kept {W W' : World} {row : Option Nat} {ad : Addr} {n : Nat} {L : List Fld} (h : Flds W (some ad) n L) (hg : W.grownBy W' row) (hne : some ad.block ≠ row) : Flds W' (some ad) n L := by
  obtain ⟨h1, h2, h3⟩ := h
  refine ⟨h1, h2, ?_⟩
  rcases h3 with h0 | ⟨b, off, ha, hlt, hc⟩
  · exact .inl h0
  · injection ha with ha
    subst ha
    exact .inr ⟨b, off, rfl, Nat.lt_of_lt_of_le hlt hg.size, fun i hi => ⟨hg.cell (hc i hi).1 hne, hg.cell (hc i hi).2 hne⟩⟩

theorem NumInv.kept {w0 : World} {h Bb p1 p2 b1 b2 : Nat} {ad : Addr} {N cap : Nat} {L : List Fld} {j : Nat} {W W' : World} {row : Option Nat} {B : Nat} (I : NumInv w0 h Bb p1 p2 b1 b2 ad N cap L j W) (hg : W.grownBy W' row) (hr : ∀ r, row = some r → B ≤ r)
    (hB : Bb < B ∧ p1 < B ∧ p2 < B ∧ b1 < B ∧ b2 < B ∧ ad.block < B) (hh : h ≤ B) (hw : h ≤ w0.heap.size) : NumInv w0 h Bb p1 p2 b1 b2 ad N cap L j W' := by
  have ne : ∀ k, k < B → some k ≠ row := fun k hk e => by have := hr k e.symm; omega
  obtain ⟨D1, D2, o1, o2, n1, n2⟩ := I.d
  exact ⟨I.box.kept hg (ne _ hB.1), flds_kept I.fl hg (ne _ hB.2.2.2.2.2), Nat.lt_of_lt_of_le I.lt hg.size, I.m1.kept hg (ne _ hB.2.1), I.m2.kept hg (ne _ hB.2.2.1), ⟨D1, D2, o1.kept hg (ne _ hB.2.2.2.1), o2.kept hg (ne _ hB.2.2.2.2.1), n1, n2⟩, I.bel.grown hg (Nat.le_trans hw I.bel.size) (fun k hk => by have := hr k hk; omega)⟩

theorem wf_num (k : Nat) (h : k ≤ 4000000) : (Lit.int .i64 ((k : Int) + 1)).wf = true := by
  have e1 : IntKind.i64.min = -9223372036854775808 := by decide
  have e2 : IntKind.i64.max = 9223372036854775807 := by decide
  simp only [Lit.wf, e1, e2, Bool.and_eq_true, decide_eq_true_eq]
  omega

set_option maxRecDepth 10000 in
set_option maxHeartbeats 1600000 in
theorem numbers_any (m : Int) (a : Option Addr) (len ca : Nat) (xs : List Fld) (w : World) (hx : Flds w a len xs) (hl : len ≤ 2097152) :
    Calls Tryz.prog 53 #[.agg #[.int .i64 m, .slice a len ca]] w fun e w' => ∃ b1 b2 D1 D2, e = .returned (.tuple #[.map (some b1), .map (some b2)]) ∧ w'.ownsMap Tryz.prog 43 (plainElem Tryz.prog 3) b1 2097300 D1 ∧ w'.ownsMap Tryz.prog 9 (plainElem Tryz.prog 3) b2 2097300 D2 ∧
      Num (firstL ++ xs) litF fitsF 0 D1 ∧ Num ((firstL ++ xs).map (·.1)) litT (fun x => x.size ≤ maxLen) 0 D2 ∧ Below w.heap.size w w' := by
  have HX : Hid (Flds w a len xs) := hx
  clear hx
  obtain ⟨FC, hFC⟩ : ∃ FC, (fieldCells firstL).toArray = FC := ⟨_, rfl⟩
  have HF : Hid (∀ w : World, Calls Tryz.prog 71 #[] w fun e w' => e = .returned (.agg FC) ∧ w' = w.alloc (.cells FC 111)) := by rw [← hFC]; exact implFirst_any
  have HFl : Hid (FC.size = 122 ∧ FC = (fieldCells firstL).toArray) := ⟨by rw [← hFC]; exact firstCells_len, hFC.symm⟩
  clear hFC
  refine (callsIn_wide (n := 4)).1 ?_
  refine callsIn_of_wp_marks Tryz.func53 rfl trivial ?_ rfl
  simp only [Tryz.ntmps53, List.size_toArray, List.length_cons, List.length_nil, Nat.reduceAdd, Nat.reduceSub, Array.replicate_succ, Array.replicate_zero, List.push_toArray, List.append_toArray, List.nil_append, List.cons_append]
  refine wpIn_wide.2 ?_
  go_wp2_with fail
  refine (HF.out _).mono ?_
  rintro e w2 ⟨rfl, rfl⟩
  have hsi : (Tryz.prog.info? 111).map (·.size) = some FC.size := by rw [HFl.out.1]; exact (zero_of_info Tryz.infoF).2
  have hso : FC.all (·.oneCell') = true := by rw [HFl.out.2]; exact firstCells_one
  obtain ⟨Z, hZ⟩ : ∃ Z, Array.replicate 122 (Value.string ⟨#[]⟩) = Z := ⟨_, rfl⟩
  have hz : ∀ w, (zeroValue 111).run Tryz.prog w = .ok (.agg Z) w := by rw [← hZ]; exact (zero_of_info Tryz.infoF).1
  have HZ : Hid (Z.size = 122) := by show _ = _; rw [← hZ]; simp
  clear hZ
  go_wp2_with (first | (refine wpList_store_new rfl 111 _ _ rfl FC (by simp [Act.eval]) rfl hsi (by first | exact HZ.out.trans HFl.out.1.symm | (rw [HFl.out.1]; kernel_rfl)) hso ?_) | fail)
  try dsimp only [Act.put]
  obtain ⟨w3, hw3⟩ : ∃ w3, ((w.alloc (Obj.cells #[Value.int IntKind.i64 m, Value.slice a len ca] 26)).alloc (Obj.cells FC 111)).alloc (Obj.cells FC 111) = w3 := ⟨_, rfl⟩
  have hA : w3.heap[w.heap.size + 1 + 1]? = some (.cells FC 111 (0, 0)) := by
    rw [← hw3]
    have := heap_alloc_last ((w.alloc (Obj.cells #[Value.int IntKind.i64 m, Value.slice a len ca] 26)).alloc (Obj.cells FC 111)) (.cells FC 111)
    simpa using this
  have hT : Box2 w3 w.heap.size 26 (.int .i64 m) (.slice a len ca) := by
    rw [← hw3]
    exact ((Box2.new _ _ _ _).alloc _).alloc _
  have HB3 : Hid (Below w.heap.size w w3) := by
    show Below _ _ _
    rw [← hw3]
    exact (((Below.refl _ _).alloc (Nat.le_refl _) _).alloc (by simp) _).alloc (by simp; omega) _
  have HF3 : Hid (Flds w3 (some ⟨w.heap.size + 1 + 1, 0, none⟩) 61 firstL) := by
    have := Flds.ofRow (t := 111) (fs := firstL) (g := w.heap.size + 1 + 1) (w := w3) (by rw [hA, HFl.out.2]) firstL_size
    rw [firstL_len] at this
    exact this
  have hz3 : w.heap.size + 1 + 1 < w3.heap.size := (Array.getElem?_eq_some_iff.1 hA).1
  have HX3 : Hid (Flds w3 a len xs) := HX.out.below HB3.out
  rw [hw3]
  obtain ⟨c0, c1, _, _⟩ := hT.cells
  clear hw3 hA hT hsi hso HF HFl hz HZ
  obtain ⟨h2, hh2⟩ : ∃ h2, w.heap.size + 1 + 1 = h2 := ⟨_, rfl⟩
  rw [hh2] at HF3 hz3 ⊢
  have HC : Hid (∀ W : World, w3.drew.alloc (.cells #[.slice (some ⟨h2, 0, none⟩) 61 61, .slice a len ca] 24) = W → W.heap[w3.heap.size]? = some (.cells #[.slice (some ⟨h2, 0, none⟩) 61 61, .slice a len ca] 24 (0, 0)) ∧ Flds W (some ⟨h2, 0, none⟩) 61 firstL ∧ Flds W a len xs ∧ Below w.heap.size w W) := by
    intro W hW
    have hb : Below w3.heap.size w3 W := by rw [← hW]; exact (Below.refl _ _).drew.alloc (Nat.le_refl _) _
    refine ⟨?_, HF3.out.below hb, HX3.out.below hb, HB3.out.trans (hb.mono HB3.out.size)⟩
    rw [← hW]
    exact heap_alloc_last w3.drew _
  refine wp_mono (Q := onNormal fun a' W => ∃ g4 cap4, a' = { tmps := #[.agg #[.int .i64 m, .slice a len ca], .pointer (some ⟨w.heap.size, 0, none⟩), .map none, .map none, .pointer (some ⟨h2, 0, none⟩), .slice (some ⟨g4, 0, none⟩) (61 + len) cap4, undef, undef, undef, undef, .agg FC, .slice (some ⟨h2, 0, none⟩) 61 61, .pointer (some ⟨w.heap.size, 1, none⟩), .slice a len ca, .slice (some ⟨w3.heap.size, 0, none⟩) 2 2, .slice (some ⟨g4, 0, none⟩) (61 + len) cap4, undef, undef, undef, undef, undef, undef, undef, undef, undef, undef, undef, undef, undef, undef, undef, undef, undef, undef, undef, undef, undef], defers := [] } ∧ OwnF W w.heap.size (.slice (some ⟨g4, 0, none⟩) (61 + len) cap4) (61 + len) (firstL ++ xs) ∧ Below w.heap.size w W) ?region ?rest
  case region =>
    go_region_with (first
      | (go_at_call 72; have hcc := HC.out _ rfl; refine (concat_any w3.heap.size 2 (some ⟨h2, 0, none⟩) a 61 len 61 ca firstL xs _ hcc.1 hcc.2.1 hcc.2.2.1 (by omega) (by omega) hl).mono ?_; rintro e w4 ⟨g4, cap4, rfl, hown4, hb4⟩))
    all_goals
      have hbw := hcc.2.2.2
      exact ⟨g4, cap4, rfl, ⟨own_down hown4.1 hbw.size, hown4.2⟩, hbw.trans (hb4.mono hbw.size)⟩
  case rest =>
    intro e a' w4 hq
    obtain ⟨rfl, g4, cap4, rfl, hown4, hb4⟩ := onNormal_out hq
    dsimp only
    have q1 : ∀ (n : Int) (w : World), (Instr.makeMap 94 (some (.int .i64 n))).run Tryz.prog w = .ok (.map (some w.heap.size)) (w.alloc (.map #[] 0)) := run_made Tryz.underlying94
    have q2 : ∀ (n : Int) (w : World), (Instr.makeMap 95 (some (.int .i64 n))).run Tryz.prog w = .ok (.map (some w.heap.size)) (w.alloc (.map #[] 0)) := run_made Tryz.underlying95
    go_wp2_with fail
    refine (callsIn_wide.1 (backward_any _ _ _ _ 4)).mono ?_
    rintro e w5 ⟨rfl, rfl⟩
    go_wp2_with fail
    have HO4 : Hid (OwnF w4 w.heap.size (.slice (some ⟨g4, 0, none⟩) (61 + len) cap4) (61 + len) (firstL ++ xs)) := hown4
    have hg4 : w.heap.size ≤ g4 ∧ g4 < w4.heap.size := hown4.1.lt _ rfl
    have hw4 := hb4.size
    have HB4 : Hid (Below w.heap.size w w4) := hb4
    obtain ⟨W0, hW0⟩ : ∃ W0, (((((w4.alloc (Obj.map #[] 0)).alloc (Obj.cells #[Value.map (some w4.heap.size)] 94)).alloc (Obj.map #[] 0)).alloc (Obj.cells #[Value.map (some (w4.heap.size + 1 + 1))] 95)).alloc (Obj.cells #[Value.slice (some { block := g4, off := 0 }) (61 + len) cap4] 24)) = W0 := ⟨_, rfl⟩
    have hs0 : W0.heap.size = w4.heap.size + 5 := by rw [← hW0]; simp
    have hL : (firstL ++ xs).length = 61 + len := by rw [List.length_append, firstL_len, HX.out.1]
    have HI0 : Hid (NumInv w w.heap.size (w4.heap.size + 1 + 1 + 1 + 1) (w4.heap.size + 1) (w4.heap.size + 1 + 1 + 1) w4.heap.size (w4.heap.size + 1 + 1) ⟨g4, 0, none⟩ (61 + len) cap4 (firstL ++ xs) (61 + len) W0) := by
      have hbb : Below w4.heap.size w4 W0 := by
        rw [← hW0]
        exact (((((Below.refl _ _).alloc (Nat.le_refl _) _).alloc (by simp) _).alloc (by simp; omega) _).alloc (by simp; omega) _).alloc (by simp; omega) _
      refine ⟨?_, hown4.flds.below hbb, by rw [hs0]; show g4 < _; omega, ?_, ?_, ⟨.map [], .map [], ?_, ?_, ?_, ?_⟩, hb4.trans (hbb.mono hb4.size)⟩
      · rw [← hW0]
        have := Boxed.new ((((w4.alloc (Obj.map #[] 0)).alloc (Obj.cells #[Value.map (some w4.heap.size)] 94)).alloc (Obj.map #[] 0)).alloc (Obj.cells #[Value.map (some (w4.heap.size + 1 + 1))] 95)) 24 (Value.slice (some { block := g4, off := 0 }) (61 + len) cap4)
        simpa using this
      · rw [← hW0]
        have := ((Boxed.new (w4.alloc (Obj.map #[] 0)) 94 (Value.map (some w4.heap.size))).alloc (Obj.map #[] 0)).alloc (Obj.cells #[Value.map (some (w4.heap.size + 1 + 1))] 95)
        have := this.alloc (Obj.cells #[Value.slice (some { block := g4, off := 0 }) (61 + len) cap4] 24)
        simpa using this
      · rw [← hW0]
        have := (Boxed.new (((w4.alloc (Obj.map #[] 0)).alloc (Obj.cells #[Value.map (some w4.heap.size)] 94)).alloc (Obj.map #[] 0)) 95 (Value.map (some (w4.heap.size + 1 + 1)))).alloc (Obj.cells #[Value.slice (some { block := g4, off := 0 }) (61 + len) cap4] 24)
        simpa using this
      · rw [← hW0, Nat.sub_self]
        exact ((((World.ownsMap_made w4 _ _ _).alloc _).alloc _).alloc _).alloc _
      · rw [← hW0, Nat.sub_self]
        have := ((World.ownsMap_made ((w4.alloc (Obj.map #[] 0)).alloc (Obj.cells #[Value.map (some w4.heap.size)] 94)) Tryz.prog 9 (plainElem (H := Unit) Tryz.prog 3)).alloc (Obj.cells #[Value.map (some (w4.heap.size + 1 + 1))] 95)).alloc (Obj.cells #[Value.slice (some { block := g4, off := 0 }) (61 + len) cap4] 24)
        simpa using this
      · rw [← hL]
        exact Num.start _ _ _
      · have := Num.start ((firstL ++ xs).map (·.1)) litT (fun x => x.size ≤ maxLen)
        rw [List.length_map, hL] at this
        exact this
    have HSz : Hid (∀ f ∈ firstL ++ xs, fitsF f) := hown4.2
    rw [hW0]
    clear hW0 hown4 hb4 hq q1 q2
    obtain ⟨h4, hh4⟩ : ∃ h4, w4.heap.size = h4 := ⟨_, rfl⟩
    rw [hh4] at HI0 hg4 hw4 hs0 ⊢
    have HLen : Hid ((firstL ++ xs).length = 61 + len) := hL
    obtain ⟨L, hLL⟩ : ∃ L, firstL ++ xs = L := ⟨_, rfl⟩
    rw [hLL] at HI0 HLen HSz
    have HLL : Hid (firstL ++ xs = L) := hLL
    have HO : Hid (∀ (f : Nat → Nat), OwnFrom W0.heap.size (fun (k : Nat) W => k < 61 + len ∧ NumInv w w.heap.size (h4 + 1 + 1 + 1 + 1) (h4 + 1) (h4 + 1 + 1 + 1) h4 (h4 + 1 + 1) ⟨g4, 0, none⟩ (61 + len) cap4 L (f k) W)) := fun f s W W' row hs hg hr =>
      ⟨hs.1, hs.2.kept (B := W0.heap.size) hg (fun r e => (hr r e).1) (by rw [hs0]; show _ ∧ _ ∧ _ ∧ _ ∧ _ ∧ g4 < _; omega) (by omega) (Nat.le_refl _)⟩
    clear hL hh4 HO4 HB4 HC HF3 HX3 HB3 c0 c1 hz3 hLL
    refine (wpIn_wide (n := 4)).1 ?_
    refine loop_turns_var (n := 4) rfl (by decide) (gf := 89) (lb := #[.pointer (some ⟨h4 + 1 + 1 + 1 + 1, 0, none⟩)]) rfl trivial (enters_of Tryz.func89 (by kernel_rfl) rfl) (encB L) (fun _ => rfl)
      (fun (k : Nat) W => k < 61 + len ∧ NumInv w w.heap.size (h4 + 1 + 1 + 1 + 1) (h4 + 1) (h4 + 1 + 1 + 1) h4 (h4 + 1 + 1) ⟨g4, 0, none⟩ (61 + len) cap4 L (k + 1) W)
      (fun (k : Nat) W => k < 61 + len ∧ NumInv w w.heap.size (h4 + 1 + 1 + 1 + 1) (h4 + 1) (h4 + 1 + 1 + 1) h4 (h4 + 1 + 1) ⟨g4, 0, none⟩ (61 + len) cap4 L k W)
      (fun _ _ _ => False)
      (fun (k : Nat) W => 0 < 61 + len ∧ NumInv w w.heap.size (h4 + 1 + 1 + 1 + 1) (h4 + 1) (h4 + 1 + 1 + 1) h4 (h4 + 1 + 1) ⟨g4, 0, none⟩ (61 + len) cap4 L 0 W)
      (fun W => 0 < 61 + len ∧ NumInv w w.heap.size (h4 + 1 + 1 + 1 + 1) (h4 + 1) (h4 + 1 + 1 + 1) h4 (h4 + 1 + 1) ⟨g4, 0, none⟩ (61 + len) cap4 L (61 + len) W)
      (back_iter 3 _ (h4 + 1 + 1 + 1 + 1) (some ⟨g4, 0, none⟩) (61 + len) cap4 L (by decide) (by omega) HLen.out _ _ _ _ _
        (fun W h => ⟨h.2.box, fun _ => ⟨by omega, by have := h.2; rwa [show 61 + len - 1 + 1 = 61 + len by omega]⟩, fun h0 => by omega⟩)
        (fun k W h => ⟨h.1, h.2.box, h.2.fl⟩)
        (fun k W h => ⟨fun h0 => ⟨by omega, by have := h.2; rwa [show k - 1 + 1 = k by omega]⟩, fun h0 => ⟨by omega, by have := h.2; rwa [h0] at this⟩⟩))
      (HO.out (fun k => k + 1)) (HO.out (fun k => k)) (fun c s W W' row hs hg hr => hs)
      (fun s W W' row hs hg hr => (HO.out (fun _ => 0)) 0 W W' row hs hg hr) (fun s W W' row hs hg hr => (HO.out (fun _ => 61 + len)) 0 W W' row hs hg hr)
      ⟨by omega, HI0.out⟩ (fun k => .cells #[.string (L.getD k (⟨#[]⟩, ⟨#[]⟩)).1, .string (L.getD k (⟨#[]⟩, ⟨#[]⟩)).2] 43) ?frame ?assign ?body ?done ?stop
    case assign =>
      intro l s W q hq K hK
      gi_wp2
      exact hK
    case body =>
      rintro l k W ⟨hk, I⟩ hWs
      have hkL : k < L.length := by rw [HLen.out]; exact hk
      obtain ⟨⟨x, y⟩, hxy⟩ : ∃ f, L[k]? = some f := ⟨_, List.getElem?_eq_getElem hkL⟩
      have hfit : fitsF (x, y) := HSz.out _ (List.mem_of_getElem? hxy)
      have HK : Hid (L[k]? = some (x, y)) := hxy
      simp only [List.getD_eq_getElem?_getD, hxy, Option.getD_some]
      clear hxy
      have hkey1 := key_field (x, y) hfit
      have hkey2 : keyOf Tryz.prog 9 (.string x) = some (litT x) := WideMaps.keyOf_string_mk Tryz.underlying9 hfit.1
      have hval : plainElem (H := Unit) Tryz.prog 3 (.int .i64 ((k : Int) + 1)) = some (.lit (.int .i64 ((k : Int) + 1)), []) := plainElem_int Tryz.underlying3 (wf_num k (by omega))
      obtain ⟨V, hV⟩ : ∃ V, W.alloc (.cells #[.string x, .string y] 43) = V := ⟨_, rfl⟩
      have IV : NumInv w w.heap.size (h4 + 1 + 1 + 1 + 1) (h4 + 1) (h4 + 1 + 1 + 1) h4 (h4 + 1 + 1) ⟨g4, 0, none⟩ (61 + len) cap4 L (k + 1) V := by
        rw [← hV]
        exact I.kept (row := none) (World.grownBy_alloc _ _ _) (fun r e => by cases e) (B := h4 + 5) (by show _ ∧ _ ∧ _ ∧ _ ∧ _ ∧ g4 < _; omega) (by omega) (Nat.le_refl _)
      have hbx : Box2 V W.heap.size 43 (.string x) (.string y) := by rw [← hV]; exact Box2.new _ _ _ _
      rw [hV]
      clear hV I
      obtain ⟨D1, D2, o1, o2, n1, n2⟩ := IV.d
      have p1 := IV.m1.cell
      have p2 := IV.m2.cell
      obtain ⟨x0, x1, _, _⟩ := hbx.cells
      have hki : (k : Int) + 1 ≤ 4000000 := by omega
      gi_wp2_with (first
        | (refine wpListIn_mapUpdate_own _ rfl _ _ _ 94 rfl 43 3 field_keyed Tryz.underlying94 (plainElem Tryz.prog 3) h4 (61 + len - (k + 1)) D1 rfl o1 (by unfold maxLen; omega) _ _ (litF (x, y)) rfl rfl hkey1 _ [] hval ?_; intro V1 o1' hg1; have p2' := (IV.m2.kept hg1 (by intro e; injection e with e; omega)).cell; obtain ⟨y0, y1, _, _⟩ := (hbx.grown hg1 (by intro e; injection e with e; omega)).cells)
        | (refine wpListIn_mapUpdate_own _ rfl _ _ _ 95 rfl 9 3 text_keyed Tryz.underlying95 (plainElem Tryz.prog 3) (h4 + 1 + 1) (61 + len - (k + 1)) D2 rfl (o2.kept hg1 (by intro e; injection e with e; omega)) (by unfold maxLen; omega) _ _ (litT x) rfl rfl hkey2 _ [] hval ?_; intro V2 o2' hg2)
        | fail)
      have hkz : 61 + len - (k + 1) + 1 = 61 + len - k := by omega
      rw [hkz] at o1' o2'
      have nb : ∀ q, q < h4 + 5 → q ≠ h4 → some q ≠ some h4 := fun q _ h e => h (by injection e)
      have nb2 : ∀ q, q < h4 + 5 → q ≠ h4 + 1 + 1 → some q ≠ some (h4 + 1 + 1) := fun q _ h e => h (by injection e)
      refine ⟨⟨Nat.le_trans hg1.size hg2.size, fun q o hq ho _ => ?_⟩, (IV.box.kept hg1 (nb _ (by omega) (by omega))).kept hg2 (nb2 _ (by omega) (by omega)), flds_kept (flds_kept IV.fl hg1 (nb _ (by show g4 < _; omega) (by show g4 ≠ _; omega))) hg2 (nb2 _ (by show g4 < _; omega) (by show g4 ≠ _; omega)),
        Nat.lt_of_lt_of_le IV.lt (Nat.le_trans hg1.size hg2.size), (IV.m1.kept hg1 (nb _ (by omega) (by omega))).kept hg2 (nb2 _ (by omega) (by omega)), (IV.m2.kept hg1 (nb _ (by omega) (by omega))).kept hg2 (nb2 _ (by omega) (by omega)),
        ⟨_, _, o1'.kept hg2 (nb2 _ (by omega) (by omega)), o2', n1.step (x, y) HK.out (field_keyed.key hkey1) (fun f hf e => litF_inj hf hfit e), n2.step x (by rw [List.getElem?_map, HK.out]; rfl) (text_keyed.key hkey2) (fun z hz e => litT_inj e)⟩,
        (IV.bel.grown hg1 IV.bel.size (fun q e => by injection e with e; omega)).grown hg2 (Nat.le_trans IV.bel.size hg1.size) (fun q e => by injection e with e; omega)⟩
      have hql : q < V.heap.size := (Array.getElem?_eq_some_iff.1 ho).1
      rw [hg2.block q (Nat.lt_of_lt_of_le hql hg1.size) (by intro e; injection e with e; omega), hg1.block q hql (by intro e; injection e with e; omega)]
      exact ho
    case done =>
      rintro D s W hD ⟨_, I⟩ hK
      dsimp only
      go_wp2_with fail
      have p1 := I.m1.cell
      have p2 := I.m2.cell
      refine wp_mono (Q := onNormal fun a' V => a' = { tmps := #[.agg #[.int .i64 m, .slice a len ca], .pointer (some ⟨w.heap.size, 0, none⟩), .map (some h4), .map (some (h4 + 1 + 1)), .pointer (some ⟨h2, 0, none⟩), .slice (some ⟨g4, 0, none⟩) (61 + len) cap4, .pointer (some ⟨h4 + 1, 0, none⟩), .pointer (some ⟨h4 + 1 + 1 + 1, 0, none⟩), undef, undef, .agg FC, .slice (some ⟨h2, 0, none⟩) 61 61, .pointer (some ⟨w.heap.size, 1, none⟩), .slice a len ca, .slice (some ⟨w3.heap.size, 0, none⟩) 2 2, .slice (some ⟨g4, 0, none⟩) (61 + len) cap4, .slice (some ⟨g4, 0, none⟩) (61 + len) cap4, .int .i64 (61 + (len : Int)), .map (some h4), .slice (some ⟨g4, 0, none⟩) (61 + len) cap4, .int .i64 (61 + (len : Int)), .map (some (h4 + 1 + 1)), .slice (some ⟨g4, 0, none⟩) (61 + len) cap4, .func (.func 89) #[] #[.pointer (some ⟨h4 + 1 + 1 + 1 + 1, 0, none⟩)], undef, undef, undef, undef, undef, undef, undef, undef, undef, undef, undef, .map (some h4), .map (some (h4 + 1 + 1))], defers := [{ target := .collected D, args := #[] }] } ∧ V = W.drew) ?region2 ?rest2
      case region2 =>
        go_region
        all_goals exact ⟨rfl, rfl⟩
      case rest2 =>
        intro e a' V hq
        obtain ⟨rfl, rfl, rfl⟩ := onNormal_out hq
        dsimp only
        clear hq
        go_wp2_with fail
        have I2 : NumInv w w.heap.size (h4 + 1 + 1 + 1 + 1) (h4 + 1) (h4 + 1 + 1 + 1) h4 (h4 + 1 + 1) ⟨g4, 0, none⟩ (61 + len) cap4 L 0 (W.drew.putObj D (.deferred none)) :=
          (I.kept (W' := W.drew) (row := none) ⟨rfl, rfl, rfl, Nat.le_refl _, fun _ _ _ => rfl⟩ (fun r e => by cases e) (B := h4 + 5) (by show _ ∧ _ ∧ _ ∧ _ ∧ _ ∧ g4 < _; omega) (by omega) (Nat.le_refl _)).kept (grownBy_putObj' W.drew D _) (fun r e => by injection e with e; omega) (B := h4 + 5) (by show _ ∧ _ ∧ _ ∧ _ ∧ _ ∧ g4 < _; omega) (by omega) (Nat.le_refl _)
        obtain ⟨D1, D2, o1, o2, n1, n2⟩ := I2.d
        have HL2 := HLL.out
        refine ⟨by simp, .inl ⟨_, _, rfl, run_takeDeferred hK, ?_⟩⟩
        refine ⟨.tuple #[.map (some h4), .map (some (h4 + 1 + 1))], by simp [results, Tryz.f53, go_sem], h4, h4 + 1 + 1, D1, D2, rfl, o1.mono (by omega), o2.mono (by omega), ?_, ?_, I2.bel⟩
        · rw [HL2]; exact n1
        · rw [HL2]; exact n2
    case stop =>
      rintro D c s W hD h
      exact h.elim

end Go.Proofs.YtckpacifimpkgacGreat
