/- The program's first fields: an array by value, whose parts are never walked one by one. The program's numbers of all fields: two maps, filled from the last field on. The program's ring of a table's fields. The program's TableOk. The program's copy of a table, by the library's Clone. -/
import Derived.Laws.Rows
import Derived.Laws.Tables
import Derived.Deep.WholeRow
import Derived.Test.YtghakpcagacdaacM07
import Derived.Test.YtghakpcagacdaacM10
import Derived.Maps.OwnIn
import Derived.Test.YtghakpcagacdaacM13
import Derived.Test.YtghakpcagacdaacM13
import Derived.Test.YtghakpcagacdaacM13
import Derived.Deep.RegionWith
import Derived.Test.YtghakpcagacdaacM13
import Derived.Test.YtghakpcagacdaacM11
import Derived.Test.YtghakpcagacdaacM12
import Derived.Deep.QuietTactic
import Derived.BigQuiet
import Derived.Lib.SliceRun
namespace Go.Proofs.Ytghakpcagacdaac
open Go.RowKit
set_option linter.unusedVariables false

/-- Operations that make these fields, in the slots from k on. -/
def Builds (t : TypeId) : Nat → List Oper → List Fld → Prop
  | _, [], [] => True
  | k, o :: os, f :: fs => o.guard = none ∧ o.dst = some k ∧ o.op = .build t #[(0, .const (.string f.1)), (1, .const (.string f.2))] ∧ Builds t (k + 1) os fs
  | _, _, _ => False

def putAll : Array Value → Nat → List Fld → Array Value
  | T, _, [] => T
  | T, k, f :: fs => putAll (T.setIfInBounds k (.agg #[.string f.1, .string f.2])) (k + 1) fs

theorem wpList_builds {P : Program} {ops : Array Oper} {rest : List Oper} {w : World} {Q : Exit → Act → World → Prop} {t : TypeId} (hbt : ∀ x y, P.built t [(0, .string x), (1, .string y)] = some #[.string x, .string y]) :
    ∀ (os : List Oper) (L : List Fld) (k : Nat) (a : Act), Builds t k os L → wpList P ops Q rest { a with tmps := putAll a.tmps k L } w → wpList P ops Q (os ++ rest) a w := by
  intro os
  induction os with
  | nil =>
    intro L k a hb h
    cases L with
    | nil => exact h
    | cons f fs => exact hb.elim
  | cons o os ih =>
    intro L k a hb h
    cases L with
    | nil => exact hb.elim
    | cons f fs =>
      obtain ⟨hg, hd, ho, hb⟩ := hb
      have e : P.built t ((#[(0, Operand.const (.string f.1)), (1, Operand.const (.string f.2))] : Array (Nat × Operand)).map fun (i, x) => (i, a.eval x)).toList = some #[.string f.1, .string f.2] := by
        simp only [List.map_toArray, List.map_cons, List.map_nil]
        exact hbt f.1 f.2
      refine wpList_build hg t _ ho (by rw [e]; rfl) ?_
      rw [e, hd]
      exact ih fs (k + 1) _ hb h

/-- The body of a function that answers a literal of an array of fields. -/
def fldsBody (t : TypeId) (ops : Array Oper) (p0 : String) : Code :=
  (Code.region 0 #[{ dst := some 0, op := .alloc t, type := 0, pos := p0, after := #[], guard := none }] false).seq ((Code.region 1 ops false).seq .ret)

theorem flds_calls {P : Program} {f : FuncId} {fn : Func} (hf : P.funcs[f]? = some fn) (t u e : TypeId) (n m : Nat) (L : List Fld) (p0 : String) (ops : Array Oper) (os : List Oper) (ob ostore : Oper) (parts : Array (Nat × Operand)) (cells z : Array Value)
    (hb : fn.body = some (fldsBody t ops p0)) (hn : fn.ntmps = m) (hr : fn.results = #[.cell 0 t])
    (hops : ops.toList = os ++ [ob, ostore]) (hB : Builds u 1 os L) (hob : ob.op = .build t parts) (hog : ob.guard = none) (hod : ob.dst = some (L.length + 1)) (hos : ostore.op = .store t (.tmp 0) (.tmp (L.length + 1))) (hsg : ostore.guard = none) (hsd : ostore.dst = none)
    (hbt : ∀ x y, P.built u [(0, .string x), (1, .string y)] = some #[.string x, .string y])
    (hu : P.underlying t = some (.array n e)) (hz : ∀ w, (zeroValue t).run P w = .ok (.agg z) w) (hsz : z.size = cells.size) (hi : (P.info? t).map (·.size) = some cells.size)
    (h1 : cells.all (·.oneCell') = true) (hpt : ∀ v : Value, (putAll ((Array.replicate m undef).setIfInBounds 0 v) 1 L)[0]? = some v) (hsl : ∀ v : Value, L.length + 1 < (putAll ((Array.replicate m undef).setIfInBounds 0 v) 1 L).size)
    (hbig : ∀ v : Value, P.built t (parts.map fun (i, x) => (i, ({ tmps := putAll ((Array.replicate m undef).setIfInBounds 0 v) 1 L, defers := [] } : Act).eval x)).toList = some cells) (w : World) :
    Calls P f #[] w fun e w' => e = .returned (.agg cells) ∧ w' = w.alloc (.cells cells t) := by
  refine calls_of_wp hf hb ?_
  unfold fldsBody
  rw [hn]
  have e0 : (#[] ++ Array.replicate (m - (#[] : Array Value).size) undef : Array Value) = Array.replicate m undef := by simp
  rw [e0]
  go_wp2_with fail
  refine wpList_builds hbt os L 1 _ hB ?_
  refine wpList_build hog t parts hob (by rw [hbig]; rfl) ?_
  rw [hbig, hod, Option.getD_some]
  have hlt := hsl (Value.pointer (some { block := w.heap.size, off := 0 }))
  have hp0 := hpt (Value.pointer (some { block := w.heap.size, off := 0 }))
  generalize putAll ((Array.replicate m undef).setIfInBounds 0 (Value.pointer (some { block := w.heap.size, off := 0 }))) 1 L = T at *
  have hx : (T.setIfInBounds (L.length + 1) (.agg cells)).getD 0 undef = .pointer (some ⟨w.heap.size, 0, none⟩) := by
    rw [Array.getD_eq_getD_getElem?, Array.getElem?_setIfInBounds_ne (by omega), hp0]
    rfl
  have hy : (T.setIfInBounds (L.length + 1) (.agg cells)).getD (L.length + 1) undef = .agg cells := by
    rw [Array.getD_eq_getD_getElem?, Array.getElem?_setIfInBounds_self_of_lt hlt]
    rfl
  refine wpList_store_row hsg t _ _ hos w.heap.size cells hx hy t z (heap_alloc_last w _) hi hsz h1 ?_
  rw [World.setRow_alloc_new, hsd]
  go_wp2_with fail
  exact bodyPost_ret (results_cell_row hr _ _ w.heap.size t cells (0, 0) _ hx (heap_alloc_last w _) hu rfl hi) rfl ⟨rfl, rfl⟩

theorem Try.infoF : (Try.prog.info? 135).map (fun i => (i.zero, i.size)) = some (some (.agg (Array.replicate 122 (.string ⟨#[]⟩))), 122) := by kernel_rfl

theorem firstCells_len : (fieldCells firstL).toArray.size = 122 := by decide +kernel
theorem firstCells_one : (fieldCells firstL).toArray.all (·.oneCell') = true := by kernel_rfl

set_option maxRecDepth 100000 in
theorem implFirst_any (w : World) : Calls Try.prog 91 #[] w fun e w' => e = .returned (.agg (fieldCells firstL).toArray) ∧ w' = w.alloc (.cells (fieldCells firstL).toArray 135) := by
  refine flds_calls Try.func91 135 36 36 61 63 firstL _ _ _ _ _ _ (fieldCells firstL).toArray (Array.replicate 122 (.string ⟨#[]⟩))
    (hb := rfl) (hn := rfl) (hr := rfl) (hops := (rfl : _ = [_, _, _, _, _, _, _, _, _, _, _, _, _, _, _, _, _, _, _, _, _, _, _, _, _, _, _, _, _, _, _, _, _, _, _, _, _, _, _, _, _, _, _, _, _, _, _, _, _, _, _, _, _, _, _, _, _, _, _, _, _] ++ [_, _])) (hB := ⟨rfl, rfl, rfl, rfl, rfl, rfl, rfl, rfl, rfl, rfl, rfl, rfl, rfl, rfl, rfl, rfl, rfl, rfl, rfl, rfl, rfl, rfl, rfl, rfl, rfl, rfl, rfl, rfl, rfl, rfl, rfl, rfl, rfl, rfl, rfl, rfl, rfl, rfl, rfl, rfl, rfl, rfl, rfl, rfl, rfl, rfl, rfl, rfl, rfl, rfl, rfl, rfl, rfl, rfl, rfl, rfl, rfl, rfl, rfl, rfl, rfl, rfl, rfl, rfl, rfl, rfl, rfl, rfl, rfl, rfl, rfl, rfl, rfl, rfl, rfl, rfl, rfl, rfl, rfl, rfl, rfl, rfl, rfl, rfl, rfl, rfl, rfl, rfl, rfl, rfl, rfl, rfl, rfl, rfl, rfl, rfl, rfl, rfl, rfl, rfl, rfl, rfl, rfl, rfl, rfl, rfl, rfl, rfl, rfl, rfl, rfl, rfl, rfl, rfl, rfl, rfl, rfl, rfl, rfl, rfl, rfl, rfl, rfl, rfl, rfl, rfl, rfl, rfl, rfl, rfl, rfl, rfl, rfl, rfl, rfl, rfl, rfl, rfl, rfl, rfl, rfl, rfl, rfl, rfl, rfl, rfl, rfl, rfl, rfl, rfl, rfl, rfl, rfl, rfl, rfl, rfl, rfl, rfl, rfl, rfl, rfl, rfl, rfl, rfl, rfl, rfl, rfl, rfl, rfl, rfl, rfl, rfl, rfl, rfl, rfl, rfl, rfl, rfl, rfl, rfl, rfl, rfl, rfl, trivial⟩) (hob := rfl) (hog := rfl) (hod := rfl) (hos := rfl) (hsg := rfl) (hsd := rfl) (hbt := fun _ _ => rfl) (hu := Try.underlying135) (hz := (zero_of_info Try.infoF).1) (hsz := by decide +kernel) (hi := ?_) (h1 := firstCells_one) (hpt := fun v => by kernel_rfl) (hsl := fun v => of_decide_eq_true (by kernel_rfl)) (hbig := fun v => by kernel_rfl) w
  rw [firstCells_len]
  exact (zero_of_info Try.infoF).2

end Go.Proofs.Ytghakpcagacdaac

namespace Go.Proofs.Ytghakpcagacdaac
open Go.RowKit Go.Shelf
set_option linter.unusedVariables false
attribute [local go_sem] Oper.semAt_some

/-- A piece of code that only goes on. -/
def onNormal (G : Act → World → Prop) : Exit → Act → World → Prop
  | .normal, a, W => G a W
  | _, _, _ => False
theorem onNormal_out {G : Act → World → Prop} {e : Exit} {a : Act} {W : World} (h : onNormal G e a W) : e = .normal ∧ G a W := by
  cases e with
  | normal => exact ⟨rfl, h⟩
  | _ => exact h.elim

theorem run_made {P : Program} {t k e : TypeId} (h : P.underlying t = some (.map k e)) (n : Int) (w : World) : (Instr.makeMap t (some (.int .i64 n))).run P w = .ok (.map (some w.heap.size)) (w.alloc (.map #[] 0)) := by
  simp [Instr.makeMap, run_underlying h, asInt, asIntOf, newObj]
  rfl

theorem wpList_store_new {P : Program} {ops : Array Oper} {rest : List Oper} {o : Oper} {a : Act} {w : World} {Q : Exit → Act → World → Prop} (hgd : o.guard = none) (t : TypeId) (x y : Operand) (ho : o.op = .store t x y)
    (cells : Array Value) {old : Array Value} (hx : a.eval x = .pointer (some ⟨w.heap.size, 0, none⟩)) (hy : a.eval y = .agg cells) (hi : (P.info? t).map (·.size) = some cells.size)
    (hold : old.size = cells.size) (h1 : cells.all (·.oneCell') = true) (h : wpList P ops Q rest (a.put o.dst undef) (w.alloc (.cells cells t))) : wpList P ops Q (o :: rest) a (w.alloc (.cells old t)) := by
  refine wpList_store_row hgd t x y ho w.heap.size cells hx hy t old (heap_alloc_last w _) hi hold h1 ?_
  rw [World.setRow_alloc_new]
  exact h

/-- What holds in the loop: the two maps tell the numbers from j on. -/
structure NumInv (w0 : World) (h Bb p1 p2 b1 b2 : Nat) (ad : Addr) (N cap : Nat) (L : List Fld) (j : Nat) (W : World) : Prop where
  box : Boxed W Bb 24 (.slice (some ad) N cap)
  fl : Flds W (some ad) N L
  lt : ad.block < W.heap.size
  m1 : Boxed W p1 119 (.map (some b1))
  m2 : Boxed W p2 120 (.map (some b2))
  d : ∃ D1 D2, W.ownsMap Try.prog 36 (plainElem Try.prog 3) b1 (N - j) D1 ∧ W.ownsMap Try.prog 9 (plainElem Try.prog 3) b2 (N - j) D2 ∧ Num L litF fitsF j D1 ∧ Num (L.map (·.1)) litT (fun x => x.size ≤ maxLen) j D2
  bel : Below h w0 W

theorem flds_kept {W W' : World} {row : Option Nat} {ad : Addr} {n : Nat} {L : List Fld} (h : Flds W (some ad) n L) (hg : W.grownBy W' row) (hne : some ad.block ≠ row) : Flds W' (some ad) n L := by
  obtain ⟨h1, h2, h3⟩ := h
  refine ⟨h1, h2, ?_⟩
  rcases h3 with h0 | ⟨b, off, ha, hlt, hc⟩
  · exact .inl h0
  · injection ha with ha
    subst ha
    exact .inr ⟨b, off, rfl, Nat.lt_of_lt_of_le hlt hg.size, fun i hi => ⟨hg.cell (hc i hi).1 hne, hg.cell (hc i hi).2 hne⟩⟩

theorem NumInv.kept {w0 : World} {h Bb p1 p2 b1 b2 : Nat} {ad : Addr} {N cap : Nat} {L : List Fld} {j : Nat} {W W' : World} {row : Option Nat} {B : Nat} (I : NumInv w0 h Bb p1 p2 b1 b2 ad N cap L j W) (hg : W.grownBy W' row) (hr : ∀ r, row = some r → B ≤ r)
    (hB : Bb < B ∧ p1 < B ∧ p2 < B ∧ b1 < B ∧ b2 < B ∧ ad.block < B) (hh : h ≤ B) (hw : h ≤ w0.heap.size) : NumInv w0 h Bb p1 p2 b1 b2 ad N cap L j W' := by
  have ne : ∀ k, k < B → some k ≠ row := fun k hk e => by have := hr k e.symm; omega
  obtain ⟨D1, D2, o1, o2, n1, n2⟩ := I.d
  exact ⟨I.box.kept hg (ne _ hB.1), flds_kept I.fl hg (ne _ hB.2.2.2.2.2), Nat.lt_of_lt_of_le I.lt hg.size, I.m1.kept hg (ne _ hB.2.1), I.m2.kept hg (ne _ hB.2.2.1), ⟨D1, D2, o1.kept hg (ne _ hB.2.2.2.1), o2.kept hg (ne _ hB.2.2.2.2.1), n1, n2⟩, I.bel.grown hg (Nat.le_trans hw I.bel.size) (fun k hk => by have := hr k hk; omega)⟩

theorem wf_num (k : Nat) (h : k ≤ 4000000) : (Lit.int .i64 ((k : Int) + 1)).wf = true := by
  have e1 : IntKind.i64.min = -9223372036854775808 := by decide
  have e2 : IntKind.i64.max = 9223372036854775807 := by decide
  simp only [Lit.wf, e1, e2, Bool.and_eq_true, decide_eq_true_eq]
  omega

set_option maxRecDepth 10000 in
set_option maxHeartbeats 1600000 in
theorem numbers_any (m : Int) (a : Option Addr) (len ca : Nat) (xs : List Fld) (w : World) (hx : Flds w a len xs) (hl : len ≤ 2097152) :
    Calls Try.prog 77 #[.agg #[.int .i64 m, .slice a len ca]] w fun e w' => ∃ b1 b2 D1 D2, e = .returned (.tuple #[.map (some b1), .map (some b2)]) ∧ w'.ownsMap Try.prog 36 (plainElem Try.prog 3) b1 2097300 D1 ∧ w'.ownsMap Try.prog 9 (plainElem Try.prog 3) b2 2097300 D2 ∧
      Num (firstL ++ xs) litF fitsF 0 D1 ∧ Num ((firstL ++ xs).map (·.1)) litT (fun x => x.size ≤ maxLen) 0 D2 ∧ Below w.heap.size w w' := by
  have HX : Hid (Flds w a len xs) := hx
  clear hx
  obtain ⟨FC, hFC⟩ : ∃ FC, (fieldCells firstL).toArray = FC := ⟨_, rfl⟩
  have HF : Hid (∀ w : World, Calls Try.prog 91 #[] w fun e w' => e = .returned (.agg FC) ∧ w' = w.alloc (.cells FC 135)) := by rw [← hFC]; exact implFirst_any
  have HFl : Hid (FC.size = 122 ∧ FC = (fieldCells firstL).toArray) := ⟨by rw [← hFC]; exact firstCells_len, hFC.symm⟩
  clear hFC
  refine (callsIn_wide (n := 4)).1 ?_
  refine callsIn_of_wp_marks Try.func77 rfl trivial ?_ rfl
  simp only [Try.ntmps77, List.size_toArray, List.length_cons, List.length_nil, Nat.reduceAdd, Nat.reduceSub, Array.replicate_succ, Array.replicate_zero, List.push_toArray, List.append_toArray, List.nil_append, List.cons_append]
  refine wpIn_wide.2 ?_
  go_wp2_with fail
  refine (HF.out _).mono ?_
  rintro e w2 ⟨rfl, rfl⟩
  have hsi : (Try.prog.info? 135).map (·.size) = some FC.size := by rw [HFl.out.1]; exact (zero_of_info Try.infoF).2
  have hso : FC.all (·.oneCell') = true := by rw [HFl.out.2]; exact firstCells_one
  obtain ⟨Z, hZ⟩ : ∃ Z, Array.replicate 122 (Value.string ⟨#[]⟩) = Z := ⟨_, rfl⟩
  have hz : ∀ w, (zeroValue 135).run Try.prog w = .ok (.agg Z) w := by rw [← hZ]; exact (zero_of_info Try.infoF).1
  have HZ : Hid (Z.size = 122) := by show _ = _; rw [← hZ]; simp
  clear hZ
  go_wp2_with (first | (refine wpList_store_new rfl 135 _ _ rfl FC (by simp [Act.eval]) rfl hsi (by first | exact HZ.out.trans HFl.out.1.symm | (rw [HFl.out.1]; kernel_rfl)) hso ?_) | fail)
  try dsimp only [Act.put]
  obtain ⟨w3, hw3⟩ : ∃ w3, ((w.alloc (Obj.cells #[Value.int IntKind.i64 m, Value.slice a len ca] 26)).alloc (Obj.cells FC 135)).alloc (Obj.cells FC 135) = w3 := ⟨_, rfl⟩
  have hA : w3.heap[w.heap.size + 1 + 1]? = some (.cells FC 135 (0, 0)) := by
    rw [← hw3]
    have := heap_alloc_last ((w.alloc (Obj.cells #[Value.int IntKind.i64 m, Value.slice a len ca] 26)).alloc (Obj.cells FC 135)) (.cells FC 135)
    simpa using this
  have hT : Box2 w3 w.heap.size 26 (.int .i64 m) (.slice a len ca) := by
    rw [← hw3]
    exact ((Box2.new _ _ _ _).alloc _).alloc _
  have HB3 : Hid (Below w.heap.size w w3) := by
    show Below _ _ _
    rw [← hw3]
    exact (((Below.refl _ _).alloc (Nat.le_refl _) _).alloc (by simp) _).alloc (by simp; omega) _
  have HF3 : Hid (Flds w3 (some ⟨w.heap.size + 1 + 1, 0, none⟩) 61 firstL) := by
    have := Flds.ofRow (t := 135) (fs := firstL) (g := w.heap.size + 1 + 1) (w := w3) (by rw [hA, HFl.out.2]) firstL_size
    rw [firstL_len] at this
    exact this
  have hz3 : w.heap.size + 1 + 1 < w3.heap.size := (Array.getElem?_eq_some_iff.1 hA).1
  have HX3 : Hid (Flds w3 a len xs) := HX.out.below HB3.out
  rw [hw3]
  obtain ⟨c0, c1, _, _⟩ := hT.cells
  clear hw3 hA hT hsi hso HF HFl hz HZ
  obtain ⟨h2, hh2⟩ : ∃ h2, w.heap.size + 1 + 1 = h2 := ⟨_, rfl⟩
  rw [hh2] at HF3 hz3 ⊢
  have HC : Hid (∀ W : World, w3.drew.alloc (.cells #[.slice (some ⟨h2, 0, none⟩) 61 61, .slice a len ca] 24) = W → W.heap[w3.heap.size]? = some (.cells #[.slice (some ⟨h2, 0, none⟩) 61 61, .slice a len ca] 24 (0, 0)) ∧ Flds W (some ⟨h2, 0, none⟩) 61 firstL ∧ Flds W a len xs ∧ Below w.heap.size w W) := by
    intro W hW
    have hb : Below w3.heap.size w3 W := by rw [← hW]; exact (Below.refl _ _).drew.alloc (Nat.le_refl _) _
    refine ⟨?_, HF3.out.below hb, HX3.out.below hb, HB3.out.trans (hb.mono HB3.out.size)⟩
    rw [← hW]
    exact heap_alloc_last w3.drew _
  refine wp_mono (Q := onNormal fun a' W => ∃ g4 cap4, a' = { tmps := #[.agg #[.int .i64 m, .slice a len ca], .pointer (some ⟨w.heap.size, 0, none⟩), .map none, .map none, .pointer (some ⟨h2, 0, none⟩), .slice (some ⟨g4, 0, none⟩) (61 + len) cap4, undef, undef, undef, undef, .agg FC, .slice (some ⟨h2, 0, none⟩) 61 61, .pointer (some ⟨w.heap.size, 1, none⟩), .slice a len ca, .slice (some ⟨w3.heap.size, 0, none⟩) 2 2, .slice (some ⟨g4, 0, none⟩) (61 + len) cap4, undef, undef, undef, undef, undef, undef, undef, undef, undef, undef, undef, undef, undef, undef, undef, undef, undef, undef, undef, undef, undef], defers := [] } ∧ OwnF W w.heap.size (.slice (some ⟨g4, 0, none⟩) (61 + len) cap4) (61 + len) (firstL ++ xs) ∧ Below w.heap.size w W) ?region ?rest
  case region =>
    go_region_with (first
      | (go_at_call 92; have hcc := HC.out _ rfl; refine (concat_any w3.heap.size 2 (some ⟨h2, 0, none⟩) a 61 len 61 ca firstL xs _ hcc.1 hcc.2.1 hcc.2.2.1 (by omega) (by omega) hl).mono ?_; rintro e w4 ⟨g4, cap4, rfl, hown4, hb4⟩))
    all_goals
      have hbw := hcc.2.2.2
      exact ⟨g4, cap4, rfl, ⟨own_down hown4.1 hbw.size, hown4.2⟩, hbw.trans (hb4.mono hbw.size)⟩
  case rest =>
    intro e a' w4 hq
    obtain ⟨rfl, g4, cap4, rfl, hown4, hb4⟩ := onNormal_out hq
    dsimp only
    have q1 : ∀ (n : Int) (w : World), (Instr.makeMap 119 (some (.int .i64 n))).run Try.prog w = .ok (.map (some w.heap.size)) (w.alloc (.map #[] 0)) := run_made Try.underlying119
    have q2 : ∀ (n : Int) (w : World), (Instr.makeMap 120 (some (.int .i64 n))).run Try.prog w = .ok (.map (some w.heap.size)) (w.alloc (.map #[] 0)) := run_made Try.underlying120
    go_wp2_with fail
    refine (callsIn_wide.1 (backward_any _ _ _ _ 4)).mono ?_
    rintro e w5 ⟨rfl, rfl⟩
    go_wp2_with fail
    have HO4 : Hid (OwnF w4 w.heap.size (.slice (some ⟨g4, 0, none⟩) (61 + len) cap4) (61 + len) (firstL ++ xs)) := hown4
    have hg4 : w.heap.size ≤ g4 ∧ g4 < w4.heap.size := hown4.1.lt _ rfl
    have hw4 := hb4.size
    have HB4 : Hid (Below w.heap.size w w4) := hb4
    obtain ⟨W0, hW0⟩ : ∃ W0, (((((w4.alloc (Obj.map #[] 0)).alloc (Obj.cells #[Value.map (some w4.heap.size)] 119)).alloc (Obj.map #[] 0)).alloc (Obj.cells #[Value.map (some (w4.heap.size + 1 + 1))] 120)).alloc (Obj.cells #[Value.slice (some { block := g4, off := 0 }) (61 + len) cap4] 24)) = W0 := ⟨_, rfl⟩
    have hs0 : W0.heap.size = w4.heap.size + 5 := by rw [← hW0]; simp
    have hL : (firstL ++ xs).length = 61 + len := by rw [List.length_append, firstL_len, HX.out.1]
    have HI0 : Hid (NumInv w w.heap.size (w4.heap.size + 1 + 1 + 1 + 1) (w4.heap.size + 1) (w4.heap.size + 1 + 1 + 1) w4.heap.size (w4.heap.size + 1 + 1) ⟨g4, 0, none⟩ (61 + len) cap4 (firstL ++ xs) (61 + len) W0) := by
      have hbb : Below w4.heap.size w4 W0 := by
        rw [← hW0]
        exact (((((Below.refl _ _).alloc (Nat.le_refl _) _).alloc (by simp) _).alloc (by simp; omega) _).alloc (by simp; omega) _).alloc (by simp; omega) _
      refine ⟨?_, hown4.flds.below hbb, by rw [hs0]; show g4 < _; omega, ?_, ?_, ⟨.map [], .map [], ?_, ?_, ?_, ?_⟩, hb4.trans (hbb.mono hb4.size)⟩
      · rw [← hW0]
        have := Boxed.new ((((w4.alloc (Obj.map #[] 0)).alloc (Obj.cells #[Value.map (some w4.heap.size)] 119)).alloc (Obj.map #[] 0)).alloc (Obj.cells #[Value.map (some (w4.heap.size + 1 + 1))] 120)) 24 (Value.slice (some { block := g4, off := 0 }) (61 + len) cap4)
        simpa using this
      · rw [← hW0]
        have := ((Boxed.new (w4.alloc (Obj.map #[] 0)) 119 (Value.map (some w4.heap.size))).alloc (Obj.map #[] 0)).alloc (Obj.cells #[Value.map (some (w4.heap.size + 1 + 1))] 120)
        have := this.alloc (Obj.cells #[Value.slice (some { block := g4, off := 0 }) (61 + len) cap4] 24)
        simpa using this
      · rw [← hW0]
        have := (Boxed.new (((w4.alloc (Obj.map #[] 0)).alloc (Obj.cells #[Value.map (some w4.heap.size)] 119)).alloc (Obj.map #[] 0)) 120 (Value.map (some (w4.heap.size + 1 + 1)))).alloc (Obj.cells #[Value.slice (some { block := g4, off := 0 }) (61 + len) cap4] 24)
        simpa using this
      · rw [← hW0, Nat.sub_self]
        exact ((((World.ownsMap_made w4 _ _ _).alloc _).alloc _).alloc _).alloc _
      · rw [← hW0, Nat.sub_self]
        have := ((World.ownsMap_made ((w4.alloc (Obj.map #[] 0)).alloc (Obj.cells #[Value.map (some w4.heap.size)] 119)) Try.prog 9 (plainElem (H := Unit) Try.prog 3)).alloc (Obj.cells #[Value.map (some (w4.heap.size + 1 + 1))] 120)).alloc (Obj.cells #[Value.slice (some { block := g4, off := 0 }) (61 + len) cap4] 24)
        simpa using this
      · rw [← hL]
        exact Num.start _ _ _
      · have := Num.start ((firstL ++ xs).map (·.1)) litT (fun x => x.size ≤ maxLen)
        rw [List.length_map, hL] at this
        exact this
    have HSz : Hid (∀ f ∈ firstL ++ xs, fitsF f) := hown4.2
    rw [hW0]
    clear hW0 hown4 hb4 hq q1 q2
    obtain ⟨h4, hh4⟩ : ∃ h4, w4.heap.size = h4 := ⟨_, rfl⟩
    rw [hh4] at HI0 hg4 hw4 hs0 ⊢
    have HLen : Hid ((firstL ++ xs).length = 61 + len) := hL
    obtain ⟨L, hLL⟩ : ∃ L, firstL ++ xs = L := ⟨_, rfl⟩
    rw [hLL] at HI0 HLen HSz
    have HLL : Hid (firstL ++ xs = L) := hLL
    have HO : Hid (∀ (f : Nat → Nat), OwnFrom W0.heap.size (fun (k : Nat) W => k < 61 + len ∧ NumInv w w.heap.size (h4 + 1 + 1 + 1 + 1) (h4 + 1) (h4 + 1 + 1 + 1) h4 (h4 + 1 + 1) ⟨g4, 0, none⟩ (61 + len) cap4 L (f k) W)) := fun f s W W' row hs hg hr =>
      ⟨hs.1, hs.2.kept (B := W0.heap.size) hg (fun r e => (hr r e).1) (by rw [hs0]; show _ ∧ _ ∧ _ ∧ _ ∧ _ ∧ g4 < _; omega) (by omega) (Nat.le_refl _)⟩
    clear hL hh4 HO4 HB4 HC HF3 HX3 HB3 c0 c1 hz3 hLL
    refine (wpIn_wide (n := 4)).1 ?_
    refine loop_turns_var (n := 4) rfl (by decide) (gf := 105) (lb := #[.pointer (some ⟨h4 + 1 + 1 + 1 + 1, 0, none⟩)]) rfl trivial (enters_of Try.func105 (by kernel_rfl) rfl) (encB L) (fun _ => rfl)
      (fun (k : Nat) W => k < 61 + len ∧ NumInv w w.heap.size (h4 + 1 + 1 + 1 + 1) (h4 + 1) (h4 + 1 + 1 + 1) h4 (h4 + 1 + 1) ⟨g4, 0, none⟩ (61 + len) cap4 L (k + 1) W)
      (fun (k : Nat) W => k < 61 + len ∧ NumInv w w.heap.size (h4 + 1 + 1 + 1 + 1) (h4 + 1) (h4 + 1 + 1 + 1) h4 (h4 + 1 + 1) ⟨g4, 0, none⟩ (61 + len) cap4 L k W)
      (fun _ _ _ => False)
      (fun (k : Nat) W => 0 < 61 + len ∧ NumInv w w.heap.size (h4 + 1 + 1 + 1 + 1) (h4 + 1) (h4 + 1 + 1 + 1) h4 (h4 + 1 + 1) ⟨g4, 0, none⟩ (61 + len) cap4 L 0 W)
      (fun W => 0 < 61 + len ∧ NumInv w w.heap.size (h4 + 1 + 1 + 1 + 1) (h4 + 1) (h4 + 1 + 1 + 1) h4 (h4 + 1 + 1) ⟨g4, 0, none⟩ (61 + len) cap4 L (61 + len) W)
      (back_iter 3 _ (h4 + 1 + 1 + 1 + 1) (some ⟨g4, 0, none⟩) (61 + len) cap4 L (by decide) (by omega) HLen.out _ _ _ _ _
        (fun W h => ⟨h.2.box, fun _ => ⟨by omega, by have := h.2; rwa [show 61 + len - 1 + 1 = 61 + len by omega]⟩, fun h0 => by omega⟩)
        (fun k W h => ⟨h.1, h.2.box, h.2.fl⟩)
        (fun k W h => ⟨fun h0 => ⟨by omega, by have := h.2; rwa [show k - 1 + 1 = k by omega]⟩, fun h0 => ⟨by omega, by have := h.2; rwa [h0] at this⟩⟩))
      (HO.out (fun k => k + 1)) (HO.out (fun k => k)) (fun c s W W' row hs hg hr => hs)
      (fun s W W' row hs hg hr => (HO.out (fun _ => 0)) 0 W W' row hs hg hr) (fun s W W' row hs hg hr => (HO.out (fun _ => 61 + len)) 0 W W' row hs hg hr)
      ⟨by omega, HI0.out⟩ (fun k => .cells #[.string (L.getD k (⟨#[]⟩, ⟨#[]⟩)).1, .string (L.getD k (⟨#[]⟩, ⟨#[]⟩)).2] 36) ?frame ?assign ?body ?done ?stop
    case assign =>
      intro l s W q hq K hK
      gi_wp2
      exact hK
    case body =>
      rintro l k W ⟨hk, I⟩ hWs
      have hkL : k < L.length := by rw [HLen.out]; exact hk
      obtain ⟨⟨x, y⟩, hxy⟩ : ∃ f, L[k]? = some f := ⟨_, List.getElem?_eq_getElem hkL⟩
      have hfit : fitsF (x, y) := HSz.out _ (List.mem_of_getElem? hxy)
      have HK : Hid (L[k]? = some (x, y)) := hxy
      simp only [List.getD_eq_getElem?_getD, hxy, Option.getD_some]
      clear hxy
      have hkey1 := key_field (x, y) hfit
      have hkey2 : keyOf Try.prog 9 (.string x) = some (litT x) := WideMaps.keyOf_string_mk Try.underlying9 hfit.1
      have hval : plainElem (H := Unit) Try.prog 3 (.int .i64 ((k : Int) + 1)) = some (.lit (.int .i64 ((k : Int) + 1)), []) := plainElem_int Try.underlying3 (wf_num k (by omega))
      obtain ⟨V, hV⟩ : ∃ V, W.alloc (.cells #[.string x, .string y] 36) = V := ⟨_, rfl⟩
      have IV : NumInv w w.heap.size (h4 + 1 + 1 + 1 + 1) (h4 + 1) (h4 + 1 + 1 + 1) h4 (h4 + 1 + 1) ⟨g4, 0, none⟩ (61 + len) cap4 L (k + 1) V := by
        rw [← hV]
        exact I.kept (row := none) (World.grownBy_alloc _ _ _) (fun r e => by cases e) (B := h4 + 5) (by show _ ∧ _ ∧ _ ∧ _ ∧ _ ∧ g4 < _; omega) (by omega) (Nat.le_refl _)
      have hbx : Box2 V W.heap.size 36 (.string x) (.string y) := by rw [← hV]; exact Box2.new _ _ _ _
      rw [hV]
      clear hV I
      obtain ⟨D1, D2, o1, o2, n1, n2⟩ := IV.d
      have p1 := IV.m1.cell
      have p2 := IV.m2.cell
      obtain ⟨x0, x1, _, _⟩ := hbx.cells
      have hki : (k : Int) + 1 ≤ 4000000 := by omega
      gi_wp2_with (first
        | (refine wpListIn_mapUpdate_own _ rfl _ _ _ 119 rfl 36 3 field_keyed Try.underlying119 (plainElem Try.prog 3) h4 (61 + len - (k + 1)) D1 rfl o1 (by unfold maxLen; omega) _ _ (litF (x, y)) rfl rfl hkey1 _ [] hval ?_; intro V1 o1' hg1; have p2' := (IV.m2.kept hg1 (by intro e; injection e with e; omega)).cell; obtain ⟨y0, y1, _, _⟩ := (hbx.grown hg1 (by intro e; injection e with e; omega)).cells)
        | (refine wpListIn_mapUpdate_own _ rfl _ _ _ 120 rfl 9 3 text_keyed Try.underlying120 (plainElem Try.prog 3) (h4 + 1 + 1) (61 + len - (k + 1)) D2 rfl (o2.kept hg1 (by intro e; injection e with e; omega)) (by unfold maxLen; omega) _ _ (litT x) rfl rfl hkey2 _ [] hval ?_; intro V2 o2' hg2)
        | fail)
      have hkz : 61 + len - (k + 1) + 1 = 61 + len - k := by omega
      rw [hkz] at o1' o2'
      have nb : ∀ q, q < h4 + 5 → q ≠ h4 → some q ≠ some h4 := fun q _ h e => h (by injection e)
      have nb2 : ∀ q, q < h4 + 5 → q ≠ h4 + 1 + 1 → some q ≠ some (h4 + 1 + 1) := fun q _ h e => h (by injection e)
      refine ⟨⟨Nat.le_trans hg1.size hg2.size, fun q o hq ho _ => ?_⟩, (IV.box.kept hg1 (nb _ (by omega) (by omega))).kept hg2 (nb2 _ (by omega) (by omega)), flds_kept (flds_kept IV.fl hg1 (nb _ (by show g4 < _; omega) (by show g4 ≠ _; omega))) hg2 (nb2 _ (by show g4 < _; omega) (by show g4 ≠ _; omega)),
        Nat.lt_of_lt_of_le IV.lt (Nat.le_trans hg1.size hg2.size), (IV.m1.kept hg1 (nb _ (by omega) (by omega))).kept hg2 (nb2 _ (by omega) (by omega)), (IV.m2.kept hg1 (nb _ (by omega) (by omega))).kept hg2 (nb2 _ (by omega) (by omega)),
        ⟨_, _, o1'.kept hg2 (nb2 _ (by omega) (by omega)), o2', n1.step (x, y) HK.out (field_keyed.key hkey1) (fun f hf e => litF_inj hf hfit e), n2.step x (by rw [List.getElem?_map, HK.out]; rfl) (text_keyed.key hkey2) (fun z hz e => litT_inj e)⟩,
        (IV.bel.grown hg1 IV.bel.size (fun q e => by injection e with e; omega)).grown hg2 (Nat.le_trans IV.bel.size hg1.size) (fun q e => by injection e with e; omega)⟩
      have hql : q < V.heap.size := (Array.getElem?_eq_some_iff.1 ho).1
      rw [hg2.block q (Nat.lt_of_lt_of_le hql hg1.size) (by intro e; injection e with e; omega), hg1.block q hql (by intro e; injection e with e; omega)]
      exact ho
    case done =>
      rintro D s W hD ⟨_, I⟩ hK
      dsimp only
      go_wp2_with fail
      have p1 := I.m1.cell
      have p2 := I.m2.cell
      refine wp_mono (Q := onNormal fun a' V => a' = { tmps := #[.agg #[.int .i64 m, .slice a len ca], .pointer (some ⟨w.heap.size, 0, none⟩), .map (some h4), .map (some (h4 + 1 + 1)), .pointer (some ⟨h2, 0, none⟩), .slice (some ⟨g4, 0, none⟩) (61 + len) cap4, .pointer (some ⟨h4 + 1, 0, none⟩), .pointer (some ⟨h4 + 1 + 1 + 1, 0, none⟩), undef, undef, .agg FC, .slice (some ⟨h2, 0, none⟩) 61 61, .pointer (some ⟨w.heap.size, 1, none⟩), .slice a len ca, .slice (some ⟨w3.heap.size, 0, none⟩) 2 2, .slice (some ⟨g4, 0, none⟩) (61 + len) cap4, .slice (some ⟨g4, 0, none⟩) (61 + len) cap4, .int .i64 (61 + (len : Int)), .map (some h4), .slice (some ⟨g4, 0, none⟩) (61 + len) cap4, .int .i64 (61 + (len : Int)), .map (some (h4 + 1 + 1)), .slice (some ⟨g4, 0, none⟩) (61 + len) cap4, .func (.func 105) #[] #[.pointer (some ⟨h4 + 1 + 1 + 1 + 1, 0, none⟩)], undef, undef, undef, undef, undef, undef, undef, undef, undef, undef, undef, .map (some h4), .map (some (h4 + 1 + 1))], defers := [{ target := .collected D, args := #[] }] } ∧ V = W.drew) ?region2 ?rest2
      case region2 =>
        go_region
        all_goals exact ⟨rfl, rfl⟩
      case rest2 =>
        intro e a' V hq
        obtain ⟨rfl, rfl, rfl⟩ := onNormal_out hq
        dsimp only
        clear hq
        go_wp2_with fail
        have I2 : NumInv w w.heap.size (h4 + 1 + 1 + 1 + 1) (h4 + 1) (h4 + 1 + 1 + 1) h4 (h4 + 1 + 1) ⟨g4, 0, none⟩ (61 + len) cap4 L 0 (W.drew.putObj D (.deferred none)) :=
          (I.kept (W' := W.drew) (row := none) ⟨rfl, rfl, rfl, Nat.le_refl _, fun _ _ _ => rfl⟩ (fun r e => by cases e) (B := h4 + 5) (by show _ ∧ _ ∧ _ ∧ _ ∧ _ ∧ g4 < _; omega) (by omega) (Nat.le_refl _)).kept (grownBy_putObj' W.drew D _) (fun r e => by injection e with e; omega) (B := h4 + 5) (by show _ ∧ _ ∧ _ ∧ _ ∧ _ ∧ g4 < _; omega) (by omega) (Nat.le_refl _)
        obtain ⟨D1, D2, o1, o2, n1, n2⟩ := I2.d
        have HL2 := HLL.out
        refine ⟨by simp, .inl ⟨_, _, rfl, run_takeDeferred hK, ?_⟩⟩
        refine ⟨.tuple #[.map (some h4), .map (some (h4 + 1 + 1))], by simp [results, Try.f77, go_sem], h4, h4 + 1 + 1, D1, D2, rfl, o1.mono (by omega), o2.mono (by omega), ?_, ?_, I2.bel⟩
        · rw [HL2]; exact n1
        · rw [HL2]; exact n2
    case stop =>
      rintro D c s W hD h
      exact h.elim

end Go.Proofs.Ytghakpcagacdaac

namespace Go.Proofs.Ytghakpcagacdaac
open Go.RowKit Go.Shelf
set_option linter.unusedVariables false
attribute [local go_sem] Oper.semAt_some

/-- The cells of a new ring. -/
def ring0 : Array Value := Array.replicate 256 (.string ⟨#[]⟩) ++ #[.int .i64 0, .int .i64 0, .int .i64 0]

theorem Try.infoG : (Try.prog.info? 166).map (fun i => (i.zero, i.size)) = some (some (.agg ring0), 259) := by kernel_rfl

theorem ring0_size : ring0.size = 259 := by simp [ring0]
theorem ring0_one : ring0.all (·.oneCell') = true := by kernel_rfl

theorem RingC.new : RingC ring0 0 [] := by
  refine ⟨ring0_size, by omega, Nat.zero_le _, by kernel_rfl, by kernel_rfl, by kernel_rfl, fun k hk => ⟨⟨#[]⟩, ?_⟩, fun i hi => by simp at hi⟩
  rw [ring0, Array.getElem?_append_left (by simp; omega), Array.getElem?_replicate, if_pos hk]

/-- What holds in the loop: the ring has the fields from j on. -/
structure RInv (w : World) (h : Nat) (a : Option Addr) (N cap : Nat) (xs : List Fld) (j : Nat) (W : World) : Prop where
  box : Boxed W (h + 1 + 1) 24 (.slice a N cap)
  ptr : Boxed W (h + 1) 147 (.pointer (some ⟨h, 0, none⟩))
  ring : ∃ p, Ring W h p (xs.drop j)
  bel : Below h w W

theorem RInv.at0 {w : World} {h : Nat} {a : Option Addr} {N cap : Nat} {xs : List Fld} {j : Nat} {W : World} (I : RInv w h a N cap xs j W) (e : j = 0) : RInv w h a N cap xs 0 W := by
  subst e
  exact I

theorem szL_append (xs ys : List Fld) : szL (xs ++ ys) = szL xs + szL ys := by
  simp only [szL, fldBytes, List.map_append, List.sum_append, List.length_append]
  omega

theorem RInv.kept {w : World} {h : Nat} {a : Option Addr} {N cap : Nat} {xs : List Fld} {j : Nat} {W W' : World} {row : Option Nat} (I : RInv w h a N cap xs j W) (hg : W.grownBy W' row) (hr : ∀ r, row = some r → h + 3 ≤ r) (hw : h ≤ w.heap.size) : RInv w h a N cap xs j W' := by
  have ne : ∀ k, k < h + 3 → some k ≠ row := fun k hk e => by have := hr k e.symm; omega
  obtain ⟨p, hR⟩ := I.ring
  exact ⟨I.box.kept hg (ne _ (by omega)), I.ptr.kept hg (ne _ (by omega)), ⟨p, hR.kept hg (ne _ (by omega))⟩, I.bel.grown hg (Nat.le_trans hw I.bel.size) (fun k hk => by have := hr k hk; omega)⟩

set_option maxRecDepth 10000 in
set_option maxHeartbeats 1600000 in
theorem ringOf_any (a : Option Addr) (len ca : Nat) (xs : List Fld) (w : World) (hx : Flds w a len xs) (hl : len ≤ 128) (hs : szL xs ≤ 100000) :
    Calls Try.prog 98 #[.slice a len ca] w fun e w' => ∃ b p, e = .returned (.pointer (some ⟨b, 0, none⟩)) ∧ w.heap.size ≤ b ∧ Ring w' b p xs ∧ Below w.heap.size w w' := by
  have HX : Hid (Flds w a len xs) := hx
  clear hx
  obtain ⟨Z, hZ⟩ : ∃ Z, ring0 = Z := ⟨_, rfl⟩
  have hz : ∀ w, (zeroValue 166).run Try.prog w = .ok (.agg Z) w := by rw [← hZ]; exact (zero_of_info Try.infoG).1
  have HZ : Hid (RingC Z 0 []) := by rw [← hZ]; exact RingC.new
  have hsi : (Try.prog.info? 166).map (·.size) = some Z.size := by rw [HZ.out.size]; exact (zero_of_info Try.infoG).2
  have hso : Z.all (·.oneCell') = true := by rw [← hZ]; exact ring0_one
  clear hZ
  refine (callsIn_wide (n := 4)).1 ?_
  refine callsIn_of_wp_marks Try.func98 rfl trivial ?_ rfl
  simp only [Try.ntmps98, List.size_toArray, List.length_cons, List.length_nil, Nat.reduceAdd, Nat.reduceSub, Array.replicate_succ, Array.replicate_zero, List.push_toArray, List.append_toArray, List.nil_append, List.cons_append]
  refine wpIn_wide.2 ?_
  go_wp2_with fail
  refine (callsIn_wide.1 (backward_any _ _ _ _ 4)).mono ?_
  rintro e w5 ⟨rfl, rfl⟩
  go_wp2_with fail
  obtain ⟨W0, hW0⟩ : ∃ W0, ((w.alloc (Obj.cells Z 166)).alloc (Obj.cells #[Value.pointer (some { block := w.heap.size, off := 0 })] 147)).alloc (Obj.cells #[Value.slice a len ca] 24) = W0 := ⟨_, rfl⟩
  have hs0 : W0.heap.size = w.heap.size + 3 := by rw [← hW0]; simp
  have hxl := HX.out.1
  have HI0 : Hid (RInv w w.heap.size a len ca xs len W0) := by
    refine ⟨?_, ?_, ⟨0, ?_⟩, ?_⟩
    · rw [← hW0]
      have := Boxed.new ((w.alloc (Obj.cells Z 166)).alloc (Obj.cells #[Value.pointer (some { block := w.heap.size, off := 0 })] 147)) 24 (Value.slice a len ca)
      simpa using this
    · rw [← hW0]
      have := (Boxed.new (w.alloc (Obj.cells Z 166)) 147 (Value.pointer (some { block := w.heap.size, off := 0 }))).alloc (Obj.cells #[Value.slice a len ca] 24)
      simpa using this
    · rw [List.drop_of_length_le (by omega)]
      refine ⟨Z, ?_, HZ.out⟩
      rw [← hW0]
      exact kept_alloc (kept_alloc (heap_alloc_new w _) _) _
    · rw [← hW0]
      exact (((Below.refl _ _).alloc (Nat.le_refl _) _).alloc (by simp) _).alloc (by simp; omega) _
  rw [hW0]
  clear hW0 hz hsi hso HZ
  obtain ⟨h, hh⟩ : ∃ h, w.heap.size = h := ⟨_, rfl⟩
  have HH : Hid (w.heap.size = h) := hh
  rw [hh] at HI0 hs0 ⊢
  have hhw : h ≤ w.heap.size := by omega
  have HXB : Hid (∀ W, Below h w W → Flds W a len xs) := fun W hW => HX.out.below (by rw [hh]; exact hW)
  have HO : Hid (∀ (f : Nat → Nat) (P : Nat → Prop), OwnFrom W0.heap.size (fun (k : Nat) W => P k ∧ RInv w h a len ca xs (f k) W)) := fun f P s W W' row hs hg hr =>
    ⟨hs.1, hs.2.kept hg (fun r e => by have := (hr r e).1; omega) hhw⟩
  clear hh
  refine (wpIn_wide (n := 4)).1 ?_
  refine loop_turns_var (n := 4) rfl (by decide) (gf := 105) (lb := #[.pointer (some ⟨h + 1 + 1, 0, none⟩)]) rfl trivial (enters_of Try.func105 (by kernel_rfl) rfl) (encB xs) (fun _ => rfl)
    (fun (k : Nat) W => k < len ∧ RInv w h a len ca xs (k + 1) W)
    (fun (k : Nat) W => k < len ∧ RInv w h a len ca xs k W)
    (fun _ _ _ => False)
    (fun (k : Nat) W => True ∧ RInv w h a len ca xs 0 W)
    (fun W => True ∧ RInv w h a len ca xs len W)
    (back_iter 3 _ (h + 1 + 1) a len ca xs (by decide) (by omega) hxl _ _ _ _ _
      (fun W hI => ⟨hI.2.box, fun h0 => ⟨by omega, by have := hI.2; rwa [show len - 1 + 1 = len by omega]⟩, fun h0 => ⟨trivial, hI.2.at0 h0⟩⟩)
      (fun k W hI => ⟨hI.1, hI.2.box, HXB.out W hI.2.bel⟩)
      (fun k W hI => ⟨fun h0 => ⟨by omega, by have := hI.2; rwa [show k - 1 + 1 = k by omega]⟩, fun h0 => ⟨trivial, hI.2.at0 h0⟩⟩))
    (HO.out (fun k => k + 1) (fun k => k < len)) (HO.out (fun k => k) (fun k => k < len)) (fun c s W W' row hs hg hr => hs)
    (fun s W W' row hs hg hr => (HO.out (fun _ => 0) (fun _ => True)) 0 W W' row hs hg hr) (fun s W W' row hs hg hr => (HO.out (fun _ => len) (fun _ => True)) 0 W W' row hs hg hr)
    ⟨trivial, HI0.out⟩ (fun k => .cells #[.string (xs.getD k (⟨#[]⟩, ⟨#[]⟩)).1, .string (xs.getD k (⟨#[]⟩, ⟨#[]⟩)).2] 36) ?frame ?assign ?body ?done ?stop
  case assign =>
    intro l s W q hq K hK
    gi_wp2
    exact hK
  case body =>
    rintro l k W ⟨hk, I⟩ hWs
    have hkL : k < xs.length := by omega
    obtain ⟨⟨x, y⟩, hxy⟩ : ∃ f, xs[k]? = some f := ⟨_, List.getElem?_eq_getElem hkL⟩
    have hsz : x.size + y.size ≤ 100000 := by
      have h1 := szL_take_step xs k hkL
      have h2 := szL_take_le xs (k + 1)
      have e : xs[k] = (x, y) := by rw [List.getElem?_eq_getElem hkL] at hxy; injection hxy
      rw [e] at h1
      dsimp only at h1
      omega
    have hdrop : (x, y) :: xs.drop (k + 1) = xs.drop k := by
      rw [List.drop_eq_getElem_cons hkL]
      rw [List.getElem?_eq_getElem hkL] at hxy
      injection hxy with e
      rw [e]
    have hdl : (xs.drop (k + 1)).length < 128 := by rw [List.length_drop]; omega
    have hds : szL (xs.drop (k + 1)) ≤ 100000 := by
      have h1 := szL_append (xs.take (k + 1)) (xs.drop (k + 1))
      rw [List.take_append_drop] at h1
      omega
    simp only [List.getD_eq_getElem?_getD, hxy, Option.getD_some]
    clear hxy
    obtain ⟨V, hV⟩ : ∃ V, W.alloc (.cells #[.string x, .string y] 36) = V := ⟨_, rfl⟩
    have IV : RInv w h a len ca xs (k + 1) V := by
      rw [← hV]
      exact I.kept (row := none) (World.grownBy_alloc _ _ _) (fun r e => by cases e) hhw
    have hbx : Box2 V W.heap.size 36 (.string x) (.string y) := by rw [← hV]; exact Box2.new _ _ _ _
    rw [hV]
    clear hV I
    obtain ⟨p, hR⟩ := IV.ring
    have p1 := IV.ptr.cell
    obtain ⟨x0, x1, _, _⟩ := hbx.cells
    gi_wp2_with fail
    refine ⟨trivial, (CallsIn.inRound l (callsIn_wide.2 (push_any h p (xs.drop (k + 1)) x y V hR hdl hds hsz))).mono ?_⟩
    rintro e V1 ⟨v, rfl, hR1, hG1⟩
    rw [hdrop] at hR1
    gi_wp2_with fail
    have ne : ∀ q, q ≠ h → some q ≠ some h := fun q hq e => hq (by injection e)
    refine ⟨⟨hG1.size, fun q o hq ho _ => (hG1.block q (Array.getElem?_eq_some_iff.1 ho).1 (ne _ (by omega))).trans ho⟩, hk, IV.box.kept hG1 (ne _ (by omega)), IV.ptr.kept hG1 (ne _ (by omega)), ⟨_, hR1⟩, IV.bel.grown hG1 (Nat.le_trans hhw IV.bel.size) (fun q e => by injection e with e; omega)⟩
  case done =>
    rintro D s W hD ⟨_, I⟩ hK
    have p1 := I.ptr.cell
    obtain ⟨p, hR⟩ := I.ring
    dsimp only
    go_wp2_with fail
    have I2 : RInv w h a len ca xs 0 (W.putObj D (.deferred none)) := I.kept (grownBy_putObj' W D _) (fun r e => by injection e with e; omega) hhw
    obtain ⟨p2, hR2⟩ := I2.ring
    refine ⟨by simp, .inl ⟨_, _, rfl, run_takeDeferred hK, ?_⟩⟩
    refine ⟨_, results_tmp rfl _ _ _, h, p2, rfl, by have := HH.out; omega, hR2, ?_⟩
    rw [HH.out]
    exact I2.bel
  case stop =>
    rintro D c s W hD h
    exact h.elim

end Go.Proofs.Ytghakpcagacdaac

namespace Go.Proofs.Ytghakpcagacdaac
open Go.RowKit
set_option linter.unusedVariables false

/-- A Max that is right. -/
def okMax (m : Int) : Bool := decide (0 ≤ m ∧ m ≤ 4096)

set_option maxHeartbeats 400000 in
theorem maxOk_any (m : Int) (w : World) : Calls Try.prog 38 #[.int .i64 m] w fun e w' => e = .returned (.bool (okMax m)) ∧ w' = w := by
  have HM : Hid (okMax m = (decide (0 ≤ m) && decide (m ≤ 4096))) := by show _ = _; simp [okMax]
  go_enter Try.func38, Try.ntmps38
  rw [HM.out]
  by_cases h0 : 0 ≤ m
  · go_wp2
    go_ret
    exact ⟨ret_bool (by simp [h0]), rfl⟩
  · go_wp2
    go_ret
    exact ⟨ret_bool (by simp; omega), rfl⟩

set_option maxRecDepth 10000 in
set_option maxHeartbeats 1600000 in
theorem implOk_any (m : Int) (a : Option Addr) (len ca : Nat) (xs : List Fld) (w : World) (hx : Flds w a len xs) (hl : len + fldBytes xs ≤ 2097152) :
    Calls Try.prog 13 #[.agg #[.int .i64 m, .slice a len ca]] w fun e w' => e = .returned (.bool (okT m xs)) ∧ Below w.heap.size w w' := by
  have HX : Hid (Flds w a len xs) := hx
  have hlen := hx.1
  clear hx
  obtain ⟨w1, hw1⟩ : ∃ w1, w.alloc (.cells #[.int .i64 m, .slice a len ca] 26) = w1 := ⟨_, rfl⟩
  have hbx : w1.heap[w.heap.size]? = some (.cells #[.int .i64 m, .slice a len ca] 26 (0, 0)) := by rw [← hw1]; exact heap_alloc_new w _
  have HB1 : Hid (Below w.heap.size w w1) := by show Below _ _ _; rw [← hw1]; exact (Below.refl _ _).alloc (Nat.le_refl _) _
  have hs1 : w.heap.size < w1.heap.size := by rw [← hw1]; simp
  have c0 : w1.cell? ⟨w.heap.size, 0, none⟩ = some (.int .i64 m) := by rw [cell_of_row _ _ _ _ _ _ hbx]; rfl
  have c1 : w1.cell? ⟨w.heap.size, 1, none⟩ = some (.slice a len ca) := by rw [cell_of_row _ _ _ _ _ _ hbx]; rfl
  have HT : Hid (∀ W : World, Below w1.heap.size w1 W → Flds W a len xs ∧ Below w.heap.size w W ∧ W.cell? ⟨w.heap.size, 0, none⟩ = some (.int .i64 m) ∧ W.cell? ⟨w.heap.size, 1, none⟩ = some (.slice a len ca)) := fun W hW =>
    have hb := HB1.out.trans (hW.mono HB1.out.size)
    ⟨HX.out.below hb, hb, (hW.cell (p := ⟨_, _, none⟩) hs1).trans c0, (hW.cell (p := ⟨_, _, none⟩) hs1).trans c1⟩
  clear hbx
  by_cases hin : 0 ≤ m ∧ m ≤ 4096
  · have hans : okT m xs = decide ((32 * len + fldBytes xs : Int) ≤ m) := by
      unfold okT szL
      rw [hlen]
      simp [hin.1, hin.2]
    have HAns : Hid (okT m xs = decide ((32 * len + fldBytes xs : Int) ≤ m)) := hans
    obtain ⟨h0, h1⟩ := hin
    have hmx : okMax m = true := by simp [okMax, h0, h1]
    have HMx : Hid (∀ w : World, Calls Try.prog 38 #[.int .i64 m] w fun e w' => e = .returned (.bool true) ∧ w' = w) := fun w => by rw [← hmx]; exact maxOk_any m w
    clear hans hmx
    go_enter Try.func13, Try.ntmps13
    go_wp2_with fail
    go_region_with (first
      | (go_at_call 38; refine (HMx.out _).mono ?_; rintro e x1 ⟨rfl, rfl⟩)
      | (go_at_call 40; refine (implSize_any m a len ca xs _ (HT.out _ (Below.refl _ _).drew).1 hl).mono ?_; rintro e x2 ⟨rfl, hb2⟩; have hb2' : Below w1.heap.size w1 x2 := (Below.refl w1.heap.size w1).drew.trans (hb2.mono (Nat.le_refl _)); have k0 := (HT.out _ hb2').2.2.1))
    all_goals
      have HB2 : Hid (Below w.heap.size w x2) := (HT.out _ hb2').2.1
      clear hb2 hb2' k0
      go_wp2
      go_ret
      exact ⟨ret_bool HAns.out.symm, HB2.out⟩
  · have hans : okT m xs = false := by
      unfold okT
      simp
      omega
    have HAns : Hid (okT m xs = false) := hans
    have HIn : Hid (m < 0 ∨ 4096 < m) := by show _ ∨ _; omega
    have hmx : okMax m = false := by have := HIn.out; simp [okMax]; omega
    have HMx : Hid (∀ w : World, Calls Try.prog 38 #[.int .i64 m] w fun e w' => e = .returned (.bool false) ∧ w' = w) := fun w => by rw [← hmx]; exact maxOk_any m w
    clear hans hin hmx
    go_enter Try.func13, Try.ntmps13
    go_wp2_with fail
    go_quiet (first | (go_at_call 38; exact Calls.quiet_of_same (HMx.out _)))
    go_wp2
    go_ret
    exact ⟨ret_bool HAns.out.symm, below_drewN HB1.out nq⟩

end Go.Proofs.Ytghakpcagacdaac

namespace Go.Proofs.Ytghakpcagacdaac
open Go.RowKit
set_option linter.unusedVariables false

set_option maxRecDepth 10000 in
set_option maxHeartbeats 1600000 in
theorem clone4_any (a : Option Addr) (len ca : Nat) (xs : List Fld) (w : World) (hx : Flds w a len xs) (hl : len ≤ 2097152) :
    Calls Try.prog 67 #[.slice a len ca] w fun e w' => ∃ a' ca', e = .returned (.slice a' len ca') ∧ OwnF w' w.heap.size (.slice a' len ca') len xs ∧ Below w.heap.size w w' := by
  cases a with
  | none =>
    obtain rfl : len = 0 := hx.none_nil rfl
    obtain rfl : xs = [] := List.eq_nil_of_length_eq_zero hx.1
    clear hx
    have qT : ∀ (w : World) (a : Option Addr) (n c n' c' : Nat), (binOp .eql 24 (.slice a n c) (.slice none n' c')).run Try.prog w = .ok (.bool a.isNone) w := fun w a n c n' c' => Lib.run_eql_slice_nil w _ _ a n c n' c' Try.underlying24
    go_enter Try.func67, Try.ntmps67
    go_wp2
    go_ret
    exact ⟨none, 0, rfl, ⟨World.ownsRow_nil _ _ _ _, fun f hf => by cases hf⟩, Below.refl _ _⟩
  | some ad =>
    obtain ⟨i0, hi, hz0, hz1, hz2⟩ := info_parts info_field
    have HX : Hid (Flds w (some ad) len xs) := hx
    have hlen := hx.1
    clear hx
    have qT : ∀ (w : World) (a : Option Addr) (n c n' c' : Nat), (binOp .eql 24 (.slice a n c) (.slice none n' c')).run Try.prog w = .ok (.bool a.isNone) w := fun w a n c n' c' => Lib.run_eql_slice_nil w _ _ a n c n' c' Try.underlying24
    have HF1 : Hid (Flds (w.alloc (.cells #[] 36)) (some ad) len xs) := HX.out.below ((Below.refl _ _).alloc (Nat.le_refl _) _)
    have HO1 : Hid ((w.alloc (.cells #[] 36)).ownsRow w.heap.size 36 2 (.slice (some ⟨w.heap.size, 0, none⟩) 0 0) 0 []) := World.ownsRow_lit w #[] 0 (Nat.le_refl _) (Nat.zero_le _) rfl
    have HA : Hid (0 + len ≤ maxLen ∧ (0 + len) * 32 ≤ 140737488355328 ∧ (fieldCells xs).length = len * 2) := ⟨by unfold maxLen; omega, by omega, by rw [fieldCells_len]; omega⟩
    go_enter Try.func67, Try.ntmps67
    go_wp2_with (first | (refine wpList_plain rfl fun K hK => ?_; refine wp_append_src (.tmp 5) (.tmp 6) 24 rfl w.heap.size 36 i0 (.agg #[.string ⟨#[]⟩, .string ⟨#[]⟩]) 2 32 Try.underlying24 hi hz0 hz1 hz2 rfl (by decide) w.heap.size 0 0 [] rfl HO1.out (some ad) len ca (fieldCells xs) rfl (fun h => by cases h) HA.out.2.2 HF1.out.cells (fieldCells_one xs) HA.out.1 HA.out.2.1 (by simp) ?_; intro v4 w4 hown hgrow; obtain ⟨a4, cap4, rfl⟩ := own_shape hown; refine hK _ _ ?_) | fail)
    have HB4 : Hid (Below w.heap.size w w4) := ((Below.refl _ _).alloc (Nat.le_refl _) _).grown hgrow (by simp) (by simp)
    have HO4 : Hid (OwnF w4 w.heap.size (.slice a4 len cap4) len xs) := by
      refine ⟨?_, HX.out.2.1⟩
      have := hown
      rw [Nat.zero_add, List.nil_append] at this
      exact this
    clear hown hgrow
    go_ret
    exact ⟨a4, cap4, rfl, HO4.out, HB4.out⟩

set_option maxRecDepth 10000 in
set_option maxHeartbeats 1600000 in
theorem implCopy_any (m : Int) (a : Option Addr) (len ca : Nat) (xs : List Fld) (w : World) (hx : Flds w a len xs) (hl : len ≤ 2097152) :
    Calls Try.prog 37 #[.agg #[.int .i64 m, .slice a len ca]] w fun e w' => ∃ v, e = .returned (.agg #[.int .i64 m, v]) ∧ OwnF w' w.heap.size v len xs ∧ Below w.heap.size w w' := by
  have HX : Hid (Flds w a len xs) := hx
  clear hx
  go_enter Try.func37, Try.ntmps37
  go_wp2_with fail
  obtain ⟨w2, hw2⟩ : ∃ w2, (w.alloc (.cells #[.int .i64 m, .slice a len ca] 26)).alloc (.cells #[.int .i64 0, .slice none 0 0] 26) = w2 := ⟨_, rfl⟩
  have q1 : Box2 w2 w.heap.size 26 (.int .i64 m) (.slice a len ca) := by rw [← hw2]; exact (Box2.new _ _ _ _).alloc _
  have q2 : Box2 w2 (w.heap.size + 1) 26 (.int .i64 0) (.slice none 0 0) := by
    rw [← hw2]
    have := Box2.new (w.alloc (.cells #[.int .i64 m, .slice a len ca] 26)) 26 (.int .i64 0) (.slice none 0 0)
    rwa [World.size_alloc] at this
  have HB2 : Hid (Below w.heap.size w w2) := by show Below _ _ _; rw [← hw2]; exact ((Below.refl _ _).alloc (Nat.le_refl _) _).alloc (by simp) _
  have HW2 : Hid (w2.heap.size = w.heap.size + 2) := by show _ = _; rw [← hw2]; simp
  have HQ : Hid (∀ W, Below w2.heap.size w2 W → Box2 W w.heap.size 26 (.int .i64 m) (.slice a len ca) ∧ Box2 W (w.heap.size + 1) 26 (.int .i64 0) (.slice none 0 0)) := fun W h => ⟨q1.stays h, q2.stays h⟩
  rw [hw2]
  clear hw2
  obtain ⟨c0, c1, _, _⟩ := q1.cells
  clear q1 q2
  go_region_with (first
    | (go_at_call 67; refine (clone4_any a len ca xs _ (HX.out.below HB2.out.drew) hl).mono ?_; rintro e w4 ⟨a4, cap4, rfl, hown, hb4⟩; have hb4' : Below w2.heap.size w2 w4 := (Below.refl w2.heap.size w2).drew.trans (hb4.mono (Nat.le_refl _)); obtain ⟨e0, e1, _, _⟩ := (HQ.out _ hb4').1.cells; obtain ⟨g0, g1, g2, g3⟩ := (HQ.out _ hb4').2.cells))
  all_goals
    have h2 := HW2.out
    have HO4 : Hid (OwnF ((w4.setCell ⟨w.heap.size + 1, 0, none⟩ (.int .i64 m)).setCell ⟨w.heap.size + 1, 1, none⟩ (.slice a4 len cap4)) w.heap.size (.slice a4 len cap4) len xs ∧ Below w.heap.size w ((w4.setCell ⟨w.heap.size + 1, 0, none⟩ (.int .i64 m)).setCell ⟨w.heap.size + 1, 1, none⟩ (.slice a4 len cap4))) := by
      have hb : Below w.heap.size w w4 := HB2.out.trans (hb4'.mono HB2.out.size)
      have := put_box hb (by omega) (HQ.out _ hb4').2 (base := w2.drew.heap.size) (by show _ < w2.heap.size; omega) hown m
      exact ⟨this.2.2, this.1⟩
    clear hown hb4 hb4' h2
    go_wp2
    refine bodyPost_ret (v := .agg #[.int .i64 m, .slice a4 len cap4]) (by simp [results, Try.f37, go_sem, g0, g1]) rfl ?_
    exact ⟨_, rfl, HO4.out.1, HO4.out.2⟩

end Go.Proofs.Ytghakpcagacdaac
