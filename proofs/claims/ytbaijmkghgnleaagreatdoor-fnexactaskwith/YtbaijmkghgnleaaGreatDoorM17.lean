/- The program's numbers of all fields: two maps, filled from the last field on. The program's ring of a table's fields. -/
import Derived.Maps.OwnIn
import Derived.Test.YtbaijmkghgnleaaGreatDoorM16
import Derived.Test.YtbaijmkghgnleaaGreatDoorM16
import Derived.Test.YtbaijmkghgnleaaGreatDoorM16
import Derived.Deep.RegionWith
import Derived.Test.YtbaijmkghgnleaaGreatDoorM14
import Derived.Test.YtbaijmkghgnleaaGreatDoorM16
import Derived.Test.YtbaijmkghgnleaaGreatDoorM10
import Derived.Test.YtbaijmkghgnleaaGreatDoorM15
namespace Go.Proofs.YtbaijmkghgnleaaGreatDoor
open Go.RowKit Go.Shelf
set_option linter.unusedVariables false
attribute [local go_sem] Oper.semAt_some

/-- A piece of code that only goes on. -/
def onNormal (G : Act → World → Prop) : Exit → Act → World → Prop
  | .normal, a, W => G a W
  | _, _, _ => False
theorem onNormal_out {G : Act → World → Prop} {e : Exit} {a : Act} {W : World} (h : onNormal G e a W) : e = .normal ∧ G a W := by
  cases e with
  | normal => exact ⟨rfl, h⟩
  | _ => exact h.elim

theorem run_made {P : Program} {t k e : TypeId} (h : P.underlying t = some (.map k e)) (n : Int) (w : World) : (Instr.makeMap t (some (.int .i64 n))).run P w = .ok (.map (some w.heap.size)) (w.alloc (.map #[] 0)) := by
  simp [Instr.makeMap, run_underlying h, asInt, asIntOf, newObj]
  rfl

theorem wpList_store_new {P : Program} {ops : Array Oper} {rest : List Oper} {o : Oper} {a : Act} {w : World} {Q : Exit → Act → World → Prop} (hgd : o.guard = none) (t : TypeId) (x y : Operand) (ho : o.op = .store t x y)
    (cells : Array Value) {old : Array Value} (hx : a.eval x = .pointer (some ⟨w.heap.size, 0, none⟩)) (hy : a.eval y = .agg cells) (hi : (P.info? t).map (·.size) = some cells.size)
    (hold : old.size = cells.size) (h1 : cells.all (·.oneCell') = true) (h : wpList P ops Q rest (a.put o.dst undef) (w.alloc (.cells cells t))) : wpList P ops Q (o :: rest) a (w.alloc (.cells old t)) := by
  refine wpList_store_row hgd t x y ho w.heap.size cells hx hy t old (heap_alloc_last w _) hi hold h1 ?_
  rw [World.setRow_alloc_new]
  exact h

/-- What holds in the loop: the two maps tell the numbers from j on. -/
structure NumInv (w0 : World) (h Bb p1 p2 b1 b2 : Nat) (ad : Addr) (N cap : Nat) (L : List Fld) (j : Nat) (W : World) : Prop where
  box : Boxed W Bb 30 (.slice (some ad) N cap)
  fl : Flds W (some ad) N L
  lt : ad.block < W.heap.size
  m1 : Boxed W p1 103 (.map (some b1))
  m2 : Boxed W p2 104 (.map (some b2))
  d : ∃ D1 D2, W.ownsMap Tryz.prog 69 (plainElem Tryz.prog 3) b1 (N - j) D1 ∧ W.ownsMap Tryz.prog 9 (plainElem Tryz.prog 3) b2 (N - j) D2 ∧ Num L litF fitsF j D1 ∧ Num (L.map (·.1)) litT (fun x => x.size ≤ maxLen) j D2
  bel : Below h w0 W

theorem flds_kept {W W' : World} {row : Option Nat} {ad : Addr} {n : Nat} {L : List Fld} (h : Flds W (some ad) n L) (hg : W.grownBy W' row) (hne : some ad.block ≠ row) : Flds W' (some ad) n L := by
  obtain ⟨h1, h2, h3⟩ := h
  refine ⟨h1, h2, ?_⟩
  rcases h3 with h0 | ⟨b, off, ha, hlt, hc⟩
  · exact .inl h0
  · injection ha with ha
    subst ha
    exact .inr ⟨b, off, rfl, Nat.lt_of_lt_of_le hlt hg.size, fun i hi => ⟨hg.cell (hc i hi).1 hne, hg.cell (hc i hi).2 hne⟩⟩

theorem NumInv.kept {w0 : World} {h Bb p1 p2 b1 b2 : Nat} {ad : Addr} {N cap : Nat} {L : List Fld} {j : Nat} {W W' : World} {row : Option Nat} {B : Nat} (I : NumInv w0 h Bb p1 p2 b1 b2 ad N cap L j W) (hg : W.grownBy W' row) (hr : ∀ r, row = some r → B ≤ r)
    (hB : Bb < B ∧ p1 < B ∧ p2 < B ∧ b1 < B ∧ b2 < B ∧ ad.block < B) (hh : h ≤ B) (hw : h ≤ w0.heap.size) : NumInv w0 h Bb p1 p2 b1 b2 ad N cap L j W' := by
  have ne : ∀ k, k < B → some k ≠ row := fun k hk e => by have := hr k e.symm; omega
  obtain ⟨D1, D2, o1, o2, n1, n2⟩ := I.d
  exact ⟨I.box.kept hg (ne _ hB.1), flds_kept I.fl hg (ne _ hB.2.2.2.2.2), Nat.lt_of_lt_of_le I.lt hg.size, I.m1.kept hg (ne _ hB.2.1), I.m2.kept hg (ne _ hB.2.2.1), ⟨D1, D2, o1.kept hg (ne _ hB.2.2.2.1), o2.kept hg (ne _ hB.2.2.2.2.1), n1, n2⟩, I.bel.grown hg (Nat.le_trans hw I.bel.size) (fun k hk => by have := hr k hk; omega)⟩

theorem wf_num (k : Nat) (h : k ≤ 4000000) : (Lit.int .i64 ((k : Int) + 1)).wf = true := by
  have e1 : IntKind.i64.min = -9223372036854775808 := by decide
  have e2 : IntKind.i64.max = 9223372036854775807 := by decide
  simp only [Lit.wf, e1, e2, Bool.and_eq_true, decide_eq_true_eq]
  omega

set_option maxRecDepth 10000 in
set_option maxHeartbeats 1600000 in
theorem numbers_any (m : Int) (a : Option Addr) (len ca : Nat) (xs : List Fld) (w : World) (hx : Flds w a len xs) (hl : len ≤ 2097152) :
    Calls Tryz.prog 83 #[.agg #[.int .i64 m, .slice a len ca]] w fun e w' => ∃ b1 b2 D1 D2, e = .returned (.tuple #[.map (some b1), .map (some b2)]) ∧ w'.ownsMap Tryz.prog 69 (plainElem Tryz.prog 3) b1 2097300 D1 ∧ w'.ownsMap Tryz.prog 9 (plainElem Tryz.prog 3) b2 2097300 D2 ∧
      Num (firstL ++ xs) litF fitsF 0 D1 ∧ Num ((firstL ++ xs).map (·.1)) litT (fun x => x.size ≤ maxLen) 0 D2 ∧ Below w.heap.size w w' := by
  have HX : Hid (Flds w a len xs) := hx
  clear hx
  obtain ⟨FC, hFC⟩ : ∃ FC, (fieldCells firstL).toArray = FC := ⟨_, rfl⟩
  have HF : Hid (∀ w : World, Calls Tryz.prog 92 #[] w fun e w' => e = .returned (.agg FC) ∧ w' = w.alloc (.cells FC 116)) := by rw [← hFC]; exact implFirst_any
  have HFl : Hid (FC.size = 122 ∧ FC = (fieldCells firstL).toArray) := ⟨by rw [← hFC]; exact firstCells_len, hFC.symm⟩
  clear hFC
  refine (callsIn_wide (n := 4)).1 ?_
  refine callsIn_of_wp_marks Tryz.func83 rfl trivial ?_ rfl
  simp only [Tryz.ntmps83, List.size_toArray, List.length_cons, List.length_nil, Nat.reduceAdd, Nat.reduceSub, Array.replicate_succ, Array.replicate_zero, List.push_toArray, List.append_toArray, List.nil_append, List.cons_append]
  refine wpIn_wide.2 ?_
  go_wp2_with fail
  refine (HF.out _).mono ?_
  rintro e w2 ⟨rfl, rfl⟩
  have hsi : (Tryz.prog.info? 116).map (·.size) = some FC.size := by rw [HFl.out.1]; exact (zero_of_info Tryz.infoF).2
  have hso : FC.all (·.oneCell') = true := by rw [HFl.out.2]; exact firstCells_one
  obtain ⟨Z, hZ⟩ : ∃ Z, Array.replicate 122 (Value.string ⟨#[]⟩) = Z := ⟨_, rfl⟩
  have hz : ∀ w, (zeroValue 116).run Tryz.prog w = .ok (.agg Z) w := by rw [← hZ]; exact (zero_of_info Tryz.infoF).1
  have HZ : Hid (Z.size = 122) := by show _ = _; rw [← hZ]; simp
  clear hZ
  go_wp2_with (first | (refine wpList_store_new rfl 116 _ _ rfl FC (by simp [Act.eval]) rfl hsi (by first | exact HZ.out.trans HFl.out.1.symm | (rw [HFl.out.1]; kernel_rfl)) hso ?_) | fail)
  try dsimp only [Act.put]
  obtain ⟨w3, hw3⟩ : ∃ w3, ((w.alloc (Obj.cells #[Value.int IntKind.i64 m, Value.slice a len ca] 32)).alloc (Obj.cells FC 116)).alloc (Obj.cells FC 116) = w3 := ⟨_, rfl⟩
  have hA : w3.heap[w.heap.size + 1 + 1]? = some (.cells FC 116 (0, 0)) := by
    rw [← hw3]
    have := heap_alloc_last ((w.alloc (Obj.cells #[Value.int IntKind.i64 m, Value.slice a len ca] 32)).alloc (Obj.cells FC 116)) (.cells FC 116)
    simpa using this
  have hT : Box2 w3 w.heap.size 32 (.int .i64 m) (.slice a len ca) := by
    rw [← hw3]
    exact ((Box2.new _ _ _ _).alloc _).alloc _
  have HB3 : Hid (Below w.heap.size w w3) := by
    show Below _ _ _
    rw [← hw3]
    exact (((Below.refl _ _).alloc (Nat.le_refl _) _).alloc (by simp) _).alloc (by simp; omega) _
  have HF3 : Hid (Flds w3 (some ⟨w.heap.size + 1 + 1, 0, none⟩) 61 firstL) := by
    have := Flds.ofRow (t := 116) (fs := firstL) (g := w.heap.size + 1 + 1) (w := w3) (by rw [hA, HFl.out.2]) firstL_size
    rw [firstL_len] at this
    exact this
  have hz3 : w.heap.size + 1 + 1 < w3.heap.size := (Array.getElem?_eq_some_iff.1 hA).1
  have HX3 : Hid (Flds w3 a len xs) := HX.out.below HB3.out
  rw [hw3]
  obtain ⟨c0, c1, _, _⟩ := hT.cells
  clear hw3 hA hT hsi hso HF HFl hz HZ
  obtain ⟨h2, hh2⟩ : ∃ h2, w.heap.size + 1 + 1 = h2 := ⟨_, rfl⟩
  rw [hh2] at HF3 hz3 ⊢
  have HC : Hid (∀ W : World, w3.drew.alloc (.cells #[.slice (some ⟨h2, 0, none⟩) 61 61, .slice a len ca] 30) = W → W.heap[w3.heap.size]? = some (.cells #[.slice (some ⟨h2, 0, none⟩) 61 61, .slice a len ca] 30 (0, 0)) ∧ Flds W (some ⟨h2, 0, none⟩) 61 firstL ∧ Flds W a len xs ∧ Below w.heap.size w W) := by
    intro W hW
    have hb : Below w3.heap.size w3 W := by rw [← hW]; exact (Below.refl _ _).drew.alloc (Nat.le_refl _) _
    refine ⟨?_, HF3.out.below hb, HX3.out.below hb, HB3.out.trans (hb.mono HB3.out.size)⟩
    rw [← hW]
    exact heap_alloc_last w3.drew _
  refine wp_mono (Q := onNormal fun a' W => ∃ g4 cap4, a' = { tmps := #[.agg #[.int .i64 m, .slice a len ca], .pointer (some ⟨w.heap.size, 0, none⟩), .map none, .map none, .pointer (some ⟨h2, 0, none⟩), .slice (some ⟨g4, 0, none⟩) (61 + len) cap4, undef, undef, undef, undef, .agg FC, .slice (some ⟨h2, 0, none⟩) 61 61, .pointer (some ⟨w.heap.size, 1, none⟩), .slice a len ca, .slice (some ⟨w3.heap.size, 0, none⟩) 2 2, .slice (some ⟨g4, 0, none⟩) (61 + len) cap4, undef, undef, undef, undef, undef, undef, undef, undef, undef, undef, undef, undef, undef, undef, undef, undef, undef, undef, undef, undef, undef], defers := [] } ∧ OwnF W w.heap.size (.slice (some ⟨g4, 0, none⟩) (61 + len) cap4) (61 + len) (firstL ++ xs) ∧ Below w.heap.size w W) ?region ?rest
  case region =>
    go_region_with (first
      | (go_at_call 93; have hcc := HC.out _ rfl; refine (concat_any w3.heap.size 2 (some ⟨h2, 0, none⟩) a 61 len 61 ca firstL xs _ hcc.1 hcc.2.1 hcc.2.2.1 (by omega) (by omega) hl).mono ?_; rintro e w4 ⟨g4, cap4, rfl, hown4, hb4⟩))
    all_goals
      have hbw := hcc.2.2.2
      exact ⟨g4, cap4, rfl, ⟨own_down hown4.1 hbw.size, hown4.2⟩, hbw.trans (hb4.mono hbw.size)⟩
  case rest =>
    intro e a' w4 hq
    obtain ⟨rfl, g4, cap4, rfl, hown4, hb4⟩ := onNormal_out hq
    dsimp only
    have q1 : ∀ (n : Int) (w : World), (Instr.makeMap 103 (some (.int .i64 n))).run Tryz.prog w = .ok (.map (some w.heap.size)) (w.alloc (.map #[] 0)) := run_made Tryz.underlying103
    have q2 : ∀ (n : Int) (w : World), (Instr.makeMap 104 (some (.int .i64 n))).run Tryz.prog w = .ok (.map (some w.heap.size)) (w.alloc (.map #[] 0)) := run_made Tryz.underlying104
    go_wp2_with fail
    refine (callsIn_wide.1 (backward_any _ _ _ _ 4)).mono ?_
    rintro e w5 ⟨rfl, rfl⟩
    go_wp2_with fail
    have HO4 : Hid (OwnF w4 w.heap.size (.slice (some ⟨g4, 0, none⟩) (61 + len) cap4) (61 + len) (firstL ++ xs)) := hown4
    have hg4 : w.heap.size ≤ g4 ∧ g4 < w4.heap.size := hown4.1.lt _ rfl
    have hw4 := hb4.size
    have HB4 : Hid (Below w.heap.size w w4) := hb4
    obtain ⟨W0, hW0⟩ : ∃ W0, (((((w4.alloc (Obj.map #[] 0)).alloc (Obj.cells #[Value.map (some w4.heap.size)] 103)).alloc (Obj.map #[] 0)).alloc (Obj.cells #[Value.map (some (w4.heap.size + 1 + 1))] 104)).alloc (Obj.cells #[Value.slice (some { block := g4, off := 0 }) (61 + len) cap4] 30)) = W0 := ⟨_, rfl⟩
    have hs0 : W0.heap.size = w4.heap.size + 5 := by rw [← hW0]; simp
    have hL : (firstL ++ xs).length = 61 + len := by rw [List.length_append, firstL_len, HX.out.1]
    have HI0 : Hid (NumInv w w.heap.size (w4.heap.size + 1 + 1 + 1 + 1) (w4.heap.size + 1) (w4.heap.size + 1 + 1 + 1) w4.heap.size (w4.heap.size + 1 + 1) ⟨g4, 0, none⟩ (61 + len) cap4 (firstL ++ xs) (61 + len) W0) := by
      have hbb : Below w4.heap.size w4 W0 := by
        rw [← hW0]
        exact (((((Below.refl _ _).alloc (Nat.le_refl _) _).alloc (by simp) _).alloc (by simp; omega) _).alloc (by simp; omega) _).alloc (by simp; omega) _
      refine ⟨?_, hown4.flds.below hbb, by rw [hs0]; show g4 < _; omega, ?_, ?_, ⟨.map [], .map [], ?_, ?_, ?_, ?_⟩, hb4.trans (hbb.mono hb4.size)⟩
      · rw [← hW0]
        have := Boxed.new ((((w4.alloc (Obj.map #[] 0)).alloc (Obj.cells #[Value.map (some w4.heap.size)] 103)).alloc (Obj.map #[] 0)).alloc (Obj.cells #[Value.map (some (w4.heap.size + 1 + 1))] 104)) 30 (Value.slice (some { block := g4, off := 0 }) (61 + len) cap4)
        simpa using this
      · rw [← hW0]
        have := ((Boxed.new (w4.alloc (Obj.map #[] 0)) 103 (Value.map (some w4.heap.size))).alloc (Obj.map #[] 0)).alloc (Obj.cells #[Value.map (some (w4.heap.size + 1 + 1))] 104)
        have := this.alloc (Obj.cells #[Value.slice (some { block := g4, off := 0 }) (61 + len) cap4] 30)
        simpa using this
      · rw [← hW0]
        have := (Boxed.new (((w4.alloc (Obj.map #[] 0)).alloc (Obj.cells #[Value.map (some w4.heap.size)] 103)).alloc (Obj.map #[] 0)) 104 (Value.map (some (w4.heap.size + 1 + 1)))).alloc (Obj.cells #[Value.slice (some { block := g4, off := 0 }) (61 + len) cap4] 30)
        simpa using this
      · rw [← hW0, Nat.sub_self]
        exact ((((World.ownsMap_made w4 _ _ _).alloc _).alloc _).alloc _).alloc _
      · rw [← hW0, Nat.sub_self]
        have := ((World.ownsMap_made ((w4.alloc (Obj.map #[] 0)).alloc (Obj.cells #[Value.map (some w4.heap.size)] 103)) Tryz.prog 9 (plainElem (H := Unit) Tryz.prog 3)).alloc (Obj.cells #[Value.map (some (w4.heap.size + 1 + 1))] 104)).alloc (Obj.cells #[Value.slice (some { block := g4, off := 0 }) (61 + len) cap4] 30)
        simpa using this
      · rw [← hL]
        exact Num.start _ _ _
      · have := Num.start ((firstL ++ xs).map (·.1)) litT (fun x => x.size ≤ maxLen)
        rw [List.length_map, hL] at this
        exact this
    have HSz : Hid (∀ f ∈ firstL ++ xs, fitsF f) := hown4.2
    rw [hW0]
    clear hW0 hown4 hb4 hq q1 q2
    obtain ⟨h4, hh4⟩ : ∃ h4, w4.heap.size = h4 := ⟨_, rfl⟩
    rw [hh4] at HI0 hg4 hw4 hs0 ⊢
    have HLen : Hid ((firstL ++ xs).length = 61 + len) := hL
    obtain ⟨L, hLL⟩ : ∃ L, firstL ++ xs = L := ⟨_, rfl⟩
    rw [hLL] at HI0 HLen HSz
    have HLL : Hid (firstL ++ xs = L) := hLL
    have HO : Hid (∀ (f : Nat → Nat), OwnFrom W0.heap.size (fun (k : Nat) W => k < 61 + len ∧ NumInv w w.heap.size (h4 + 1 + 1 + 1 + 1) (h4 + 1) (h4 + 1 + 1 + 1) h4 (h4 + 1 + 1) ⟨g4, 0, none⟩ (61 + len) cap4 L (f k) W)) := fun f s W W' row hs hg hr =>
      ⟨hs.1, hs.2.kept (B := W0.heap.size) hg (fun r e => (hr r e).1) (by rw [hs0]; show _ ∧ _ ∧ _ ∧ _ ∧ _ ∧ g4 < _; omega) (by omega) (Nat.le_refl _)⟩
    clear hL hh4 HO4 HB4 HC HF3 HX3 HB3 c0 c1 hz3 hLL
    refine (wpIn_wide (n := 4)).1 ?_
    refine loop_turns_var (n := 4) rfl (by decide) (gf := 110) (lb := #[.pointer (some ⟨h4 + 1 + 1 + 1 + 1, 0, none⟩)]) rfl trivial (enters_of Tryz.func110 (by kernel_rfl) rfl) (encB L) (fun _ => rfl)
      (fun (k : Nat) W => k < 61 + len ∧ NumInv w w.heap.size (h4 + 1 + 1 + 1 + 1) (h4 + 1) (h4 + 1 + 1 + 1) h4 (h4 + 1 + 1) ⟨g4, 0, none⟩ (61 + len) cap4 L (k + 1) W)
      (fun (k : Nat) W => k < 61 + len ∧ NumInv w w.heap.size (h4 + 1 + 1 + 1 + 1) (h4 + 1) (h4 + 1 + 1 + 1) h4 (h4 + 1 + 1) ⟨g4, 0, none⟩ (61 + len) cap4 L k W)
      (fun _ _ _ => False)
      (fun (k : Nat) W => 0 < 61 + len ∧ NumInv w w.heap.size (h4 + 1 + 1 + 1 + 1) (h4 + 1) (h4 + 1 + 1 + 1) h4 (h4 + 1 + 1) ⟨g4, 0, none⟩ (61 + len) cap4 L 0 W)
      (fun W => 0 < 61 + len ∧ NumInv w w.heap.size (h4 + 1 + 1 + 1 + 1) (h4 + 1) (h4 + 1 + 1 + 1) h4 (h4 + 1 + 1) ⟨g4, 0, none⟩ (61 + len) cap4 L (61 + len) W)
      (back_iter 3 _ (h4 + 1 + 1 + 1 + 1) (some ⟨g4, 0, none⟩) (61 + len) cap4 L (by decide) (by omega) HLen.out _ _ _ _ _
        (fun W h => ⟨h.2.box, fun _ => ⟨by omega, by have := h.2; rwa [show 61 + len - 1 + 1 = 61 + len by omega]⟩, fun h0 => by omega⟩)
        (fun k W h => ⟨h.1, h.2.box, h.2.fl⟩)
        (fun k W h => ⟨fun h0 => ⟨by omega, by have := h.2; rwa [show k - 1 + 1 = k by omega]⟩, fun h0 => ⟨by omega, by have := h.2; rwa [h0] at this⟩⟩))
      (HO.out (fun k => k + 1)) (HO.out (fun k => k)) (fun c s W W' row hs hg hr => hs)
      (fun s W W' row hs hg hr => (HO.out (fun _ => 0)) 0 W W' row hs hg hr) (fun s W W' row hs hg hr => (HO.out (fun _ => 61 + len)) 0 W W' row hs hg hr)
      ⟨by omega, HI0.out⟩ (fun k => .cells #[.string (L.getD k (⟨#[]⟩, ⟨#[]⟩)).1, .string (L.getD k (⟨#[]⟩, ⟨#[]⟩)).2] 69) ?frame ?assign ?body ?done ?stop
    case assign =>
      intro l s W q hq K hK
      gi_wp2
      exact hK
    case body =>
      rintro l k W ⟨hk, I⟩ hWs
      have hkL : k < L.length := by rw [HLen.out]; exact hk
      obtain ⟨⟨x, y⟩, hxy⟩ : ∃ f, L[k]? = some f := ⟨_, List.getElem?_eq_getElem hkL⟩
      have hfit : fitsF (x, y) := HSz.out _ (List.mem_of_getElem? hxy)
      have HK : Hid (L[k]? = some (x, y)) := hxy
      simp only [List.getD_eq_getElem?_getD, hxy, Option.getD_some]
      clear hxy
      have hkey1 := key_field (x, y) hfit
      have hkey2 : keyOf Tryz.prog 9 (.string x) = some (litT x) := WideMaps.keyOf_string_mk Tryz.underlying9 hfit.1
      have hval : plainElem (H := Unit) Tryz.prog 3 (.int .i64 ((k : Int) + 1)) = some (.lit (.int .i64 ((k : Int) + 1)), []) := plainElem_int Tryz.underlying3 (wf_num k (by omega))
      obtain ⟨V, hV⟩ : ∃ V, W.alloc (.cells #[.string x, .string y] 69) = V := ⟨_, rfl⟩
      have IV : NumInv w w.heap.size (h4 + 1 + 1 + 1 + 1) (h4 + 1) (h4 + 1 + 1 + 1) h4 (h4 + 1 + 1) ⟨g4, 0, none⟩ (61 + len) cap4 L (k + 1) V := by
        rw [← hV]
        exact I.kept (row := none) (World.grownBy_alloc _ _ _) (fun r e => by cases e) (B := h4 + 5) (by show _ ∧ _ ∧ _ ∧ _ ∧ _ ∧ g4 < _; omega) (by omega) (Nat.le_refl _)
      have hbx : Box2 V W.heap.size 69 (.string x) (.string y) := by rw [← hV]; exact Box2.new _ _ _ _
      rw [hV]
      clear hV I
      obtain ⟨D1, D2, o1, o2, n1, n2⟩ := IV.d
      have p1 := IV.m1.cell
      have p2 := IV.m2.cell
      obtain ⟨x0, x1, _, _⟩ := hbx.cells
      have hki : (k : Int) + 1 ≤ 4000000 := by omega
      gi_wp2_with (first
        | (refine wpListIn_mapUpdate_own _ rfl _ _ _ 103 rfl 69 3 field_keyed Tryz.underlying103 (plainElem Tryz.prog 3) h4 (61 + len - (k + 1)) D1 rfl o1 (by unfold maxLen; omega) _ _ (litF (x, y)) rfl rfl hkey1 _ [] hval ?_; intro V1 o1' hg1; have p2' := (IV.m2.kept hg1 (by intro e; injection e with e; omega)).cell; obtain ⟨y0, y1, _, _⟩ := (hbx.grown hg1 (by intro e; injection e with e; omega)).cells)
        | (refine wpListIn_mapUpdate_own _ rfl _ _ _ 104 rfl 9 3 text_keyed Tryz.underlying104 (plainElem Tryz.prog 3) (h4 + 1 + 1) (61 + len - (k + 1)) D2 rfl (o2.kept hg1 (by intro e; injection e with e; omega)) (by unfold maxLen; omega) _ _ (litT x) rfl rfl hkey2 _ [] hval ?_; intro V2 o2' hg2)
        | fail)
      have hkz : 61 + len - (k + 1) + 1 = 61 + len - k := by omega
      rw [hkz] at o1' o2'
      have nb : ∀ q, q < h4 + 5 → q ≠ h4 → some q ≠ some h4 := fun q _ h e => h (by injection e)
      have nb2 : ∀ q, q < h4 + 5 → q ≠ h4 + 1 + 1 → some q ≠ some (h4 + 1 + 1) := fun q _ h e => h (by injection e)
      refine ⟨⟨Nat.le_trans hg1.size hg2.size, fun q o hq ho _ => ?_⟩, (IV.box.kept hg1 (nb _ (by omega) (by omega))).kept hg2 (nb2 _ (by omega) (by omega)), flds_kept (flds_kept IV.fl hg1 (nb _ (by show g4 < _; omega) (by show g4 ≠ _; omega))) hg2 (nb2 _ (by show g4 < _; omega) (by show g4 ≠ _; omega)),
        Nat.lt_of_lt_of_le IV.lt (Nat.le_trans hg1.size hg2.size), (IV.m1.kept hg1 (nb _ (by omega) (by omega))).kept hg2 (nb2 _ (by omega) (by omega)), (IV.m2.kept hg1 (nb _ (by omega) (by omega))).kept hg2 (nb2 _ (by omega) (by omega)),
        ⟨_, _, o1'.kept hg2 (nb2 _ (by omega) (by omega)), o2', n1.step (x, y) HK.out (field_keyed.key hkey1) (fun f hf e => litF_inj hf hfit e), n2.step x (by rw [List.getElem?_map, HK.out]; rfl) (text_keyed.key hkey2) (fun z hz e => litT_inj e)⟩,
        (IV.bel.grown hg1 IV.bel.size (fun q e => by injection e with e; omega)).grown hg2 (Nat.le_trans IV.bel.size hg1.size) (fun q e => by injection e with e; omega)⟩
      have hql : q < V.heap.size := (Array.getElem?_eq_some_iff.1 ho).1
      rw [hg2.block q (Nat.lt_of_lt_of_le hql hg1.size) (by intro e; injection e with e; omega), hg1.block q hql (by intro e; injection e with e; omega)]
      exact ho
    case done =>
      rintro D s W hD ⟨_, I⟩ hK
      dsimp only
      go_wp2_with fail
      have p1 := I.m1.cell
      have p2 := I.m2.cell
      refine wp_mono (Q := onNormal fun a' V => a' = { tmps := #[.agg #[.int .i64 m, .slice a len ca], .pointer (some ⟨w.heap.size, 0, none⟩), .map (some h4), .map (some (h4 + 1 + 1)), .pointer (some ⟨h2, 0, none⟩), .slice (some ⟨g4, 0, none⟩) (61 + len) cap4, .pointer (some ⟨h4 + 1, 0, none⟩), .pointer (some ⟨h4 + 1 + 1 + 1, 0, none⟩), undef, undef, .agg FC, .slice (some ⟨h2, 0, none⟩) 61 61, .pointer (some ⟨w.heap.size, 1, none⟩), .slice a len ca, .slice (some ⟨w3.heap.size, 0, none⟩) 2 2, .slice (some ⟨g4, 0, none⟩) (61 + len) cap4, .slice (some ⟨g4, 0, none⟩) (61 + len) cap4, .int .i64 (61 + (len : Int)), .map (some h4), .slice (some ⟨g4, 0, none⟩) (61 + len) cap4, .int .i64 (61 + (len : Int)), .map (some (h4 + 1 + 1)), .slice (some ⟨g4, 0, none⟩) (61 + len) cap4, .func (.func 110) #[] #[.pointer (some ⟨h4 + 1 + 1 + 1 + 1, 0, none⟩)], undef, undef, undef, undef, undef, undef, undef, undef, undef, undef, undef, .map (some h4), .map (some (h4 + 1 + 1))], defers := [{ target := .collected D, args := #[] }] } ∧ V = W.drew) ?region2 ?rest2
      case region2 =>
        go_region
        all_goals exact ⟨rfl, rfl⟩
      case rest2 =>
        intro e a' V hq
        obtain ⟨rfl, rfl, rfl⟩ := onNormal_out hq
        dsimp only
        clear hq
        go_wp2_with fail
        have I2 : NumInv w w.heap.size (h4 + 1 + 1 + 1 + 1) (h4 + 1) (h4 + 1 + 1 + 1) h4 (h4 + 1 + 1) ⟨g4, 0, none⟩ (61 + len) cap4 L 0 (W.drew.putObj D (.deferred none)) :=
          (I.kept (W' := W.drew) (row := none) ⟨rfl, rfl, rfl, Nat.le_refl _, fun _ _ _ => rfl⟩ (fun r e => by cases e) (B := h4 + 5) (by show _ ∧ _ ∧ _ ∧ _ ∧ _ ∧ g4 < _; omega) (by omega) (Nat.le_refl _)).kept (grownBy_putObj' W.drew D _) (fun r e => by injection e with e; omega) (B := h4 + 5) (by show _ ∧ _ ∧ _ ∧ _ ∧ _ ∧ g4 < _; omega) (by omega) (Nat.le_refl _)
        obtain ⟨D1, D2, o1, o2, n1, n2⟩ := I2.d
        have HL2 := HLL.out
        refine ⟨by simp, .inl ⟨_, _, rfl, run_takeDeferred hK, ?_⟩⟩
        refine ⟨.tuple #[.map (some h4), .map (some (h4 + 1 + 1))], by simp [results, Tryz.f83, go_sem], h4, h4 + 1 + 1, D1, D2, rfl, o1.mono (by omega), o2.mono (by omega), ?_, ?_, I2.bel⟩
        · rw [HL2]; exact n1
        · rw [HL2]; exact n2
    case stop =>
      rintro D c s W hD h
      exact h.elim

end Go.Proofs.YtbaijmkghgnleaaGreatDoor

namespace Go.Proofs.YtbaijmkghgnleaaGreatDoor
open Go.RowKit Go.Shelf
set_option linter.unusedVariables false
attribute [local go_sem] Oper.semAt_some

/-- The cells of a new ring. -/
def ring0 : Array Value := Array.replicate 256 (.string ⟨#[]⟩) ++ #[.int .i64 0, .int .i64 0, .int .i64 0]

theorem Tryz.infoG : (Tryz.prog.info? 146).map (fun i => (i.zero, i.size)) = some (some (.agg ring0), 259) := by kernel_rfl

theorem ring0_size : ring0.size = 259 := by simp [ring0]
theorem ring0_one : ring0.all (·.oneCell') = true := by kernel_rfl

theorem RingC.new : RingC ring0 0 [] := by
  refine ⟨ring0_size, by omega, Nat.zero_le _, by kernel_rfl, by kernel_rfl, by kernel_rfl, fun k hk => ⟨⟨#[]⟩, ?_⟩, fun i hi => by simp at hi⟩
  rw [ring0, Array.getElem?_append_left (by simp; omega), Array.getElem?_replicate, if_pos hk]

/-- What holds in the loop: the ring has the fields from j on. -/
structure RInv (w : World) (h : Nat) (a : Option Addr) (N cap : Nat) (xs : List Fld) (j : Nat) (W : World) : Prop where
  box : Boxed W (h + 1 + 1) 30 (.slice a N cap)
  ptr : Boxed W (h + 1) 126 (.pointer (some ⟨h, 0, none⟩))
  ring : ∃ p, Ring W h p (xs.drop j)
  bel : Below h w W

theorem RInv.at0 {w : World} {h : Nat} {a : Option Addr} {N cap : Nat} {xs : List Fld} {j : Nat} {W : World} (I : RInv w h a N cap xs j W) (e : j = 0) : RInv w h a N cap xs 0 W := by
  subst e
  exact I

theorem szL_append (xs ys : List Fld) : szL (xs ++ ys) = szL xs + szL ys := by
  simp only [szL, fldBytes, List.map_append, List.sum_append, List.length_append]
  omega

theorem RInv.kept {w : World} {h : Nat} {a : Option Addr} {N cap : Nat} {xs : List Fld} {j : Nat} {W W' : World} {row : Option Nat} (I : RInv w h a N cap xs j W) (hg : W.grownBy W' row) (hr : ∀ r, row = some r → h + 3 ≤ r) (hw : h ≤ w.heap.size) : RInv w h a N cap xs j W' := by
  have ne : ∀ k, k < h + 3 → some k ≠ row := fun k hk e => by have := hr k e.symm; omega
  obtain ⟨p, hR⟩ := I.ring
  exact ⟨I.box.kept hg (ne _ (by omega)), I.ptr.kept hg (ne _ (by omega)), ⟨p, hR.kept hg (ne _ (by omega))⟩, I.bel.grown hg (Nat.le_trans hw I.bel.size) (fun k hk => by have := hr k hk; omega)⟩

set_option maxRecDepth 10000 in
set_option maxHeartbeats 1600000 in
theorem ringOf_any (a : Option Addr) (len ca : Nat) (xs : List Fld) (w : World) (hx : Flds w a len xs) (hl : len ≤ 128) (hs : szL xs ≤ 100000) :
    Calls Tryz.prog 101 #[.slice a len ca] w fun e w' => ∃ b p, e = .returned (.pointer (some ⟨b, 0, none⟩)) ∧ w.heap.size ≤ b ∧ Ring w' b p xs ∧ Below w.heap.size w w' := by
  have HX : Hid (Flds w a len xs) := hx
  clear hx
  obtain ⟨Z, hZ⟩ : ∃ Z, ring0 = Z := ⟨_, rfl⟩
  have hz : ∀ w, (zeroValue 146).run Tryz.prog w = .ok (.agg Z) w := by rw [← hZ]; exact (zero_of_info Tryz.infoG).1
  have HZ : Hid (RingC Z 0 []) := by rw [← hZ]; exact RingC.new
  have hsi : (Tryz.prog.info? 146).map (·.size) = some Z.size := by rw [HZ.out.size]; exact (zero_of_info Tryz.infoG).2
  have hso : Z.all (·.oneCell') = true := by rw [← hZ]; exact ring0_one
  clear hZ
  refine (callsIn_wide (n := 4)).1 ?_
  refine callsIn_of_wp_marks Tryz.func101 rfl trivial ?_ rfl
  simp only [Tryz.ntmps101, List.size_toArray, List.length_cons, List.length_nil, Nat.reduceAdd, Nat.reduceSub, Array.replicate_succ, Array.replicate_zero, List.push_toArray, List.append_toArray, List.nil_append, List.cons_append]
  refine wpIn_wide.2 ?_
  go_wp2_with fail
  refine (callsIn_wide.1 (backward_any _ _ _ _ 4)).mono ?_
  rintro e w5 ⟨rfl, rfl⟩
  go_wp2_with fail
  obtain ⟨W0, hW0⟩ : ∃ W0, ((w.alloc (Obj.cells Z 146)).alloc (Obj.cells #[Value.pointer (some { block := w.heap.size, off := 0 })] 126)).alloc (Obj.cells #[Value.slice a len ca] 30) = W0 := ⟨_, rfl⟩
  have hs0 : W0.heap.size = w.heap.size + 3 := by rw [← hW0]; simp
  have hxl := HX.out.1
  have HI0 : Hid (RInv w w.heap.size a len ca xs len W0) := by
    refine ⟨?_, ?_, ⟨0, ?_⟩, ?_⟩
    · rw [← hW0]
      have := Boxed.new ((w.alloc (Obj.cells Z 146)).alloc (Obj.cells #[Value.pointer (some { block := w.heap.size, off := 0 })] 126)) 30 (Value.slice a len ca)
      simpa using this
    · rw [← hW0]
      have := (Boxed.new (w.alloc (Obj.cells Z 146)) 126 (Value.pointer (some { block := w.heap.size, off := 0 }))).alloc (Obj.cells #[Value.slice a len ca] 30)
      simpa using this
    · rw [List.drop_of_length_le (by omega)]
      refine ⟨Z, ?_, HZ.out⟩
      rw [← hW0]
      exact kept_alloc (kept_alloc (heap_alloc_new w _) _) _
    · rw [← hW0]
      exact (((Below.refl _ _).alloc (Nat.le_refl _) _).alloc (by simp) _).alloc (by simp; omega) _
  rw [hW0]
  clear hW0 hz hsi hso HZ
  obtain ⟨h, hh⟩ : ∃ h, w.heap.size = h := ⟨_, rfl⟩
  have HH : Hid (w.heap.size = h) := hh
  rw [hh] at HI0 hs0 ⊢
  have hhw : h ≤ w.heap.size := by omega
  have HXB : Hid (∀ W, Below h w W → Flds W a len xs) := fun W hW => HX.out.below (by rw [hh]; exact hW)
  have HO : Hid (∀ (f : Nat → Nat) (P : Nat → Prop), OwnFrom W0.heap.size (fun (k : Nat) W => P k ∧ RInv w h a len ca xs (f k) W)) := fun f P s W W' row hs hg hr =>
    ⟨hs.1, hs.2.kept hg (fun r e => by have := (hr r e).1; omega) hhw⟩
  clear hh
  refine (wpIn_wide (n := 4)).1 ?_
  refine loop_turns_var (n := 4) rfl (by decide) (gf := 110) (lb := #[.pointer (some ⟨h + 1 + 1, 0, none⟩)]) rfl trivial (enters_of Tryz.func110 (by kernel_rfl) rfl) (encB xs) (fun _ => rfl)
    (fun (k : Nat) W => k < len ∧ RInv w h a len ca xs (k + 1) W)
    (fun (k : Nat) W => k < len ∧ RInv w h a len ca xs k W)
    (fun _ _ _ => False)
    (fun (k : Nat) W => True ∧ RInv w h a len ca xs 0 W)
    (fun W => True ∧ RInv w h a len ca xs len W)
    (back_iter 3 _ (h + 1 + 1) a len ca xs (by decide) (by omega) hxl _ _ _ _ _
      (fun W hI => ⟨hI.2.box, fun h0 => ⟨by omega, by have := hI.2; rwa [show len - 1 + 1 = len by omega]⟩, fun h0 => ⟨trivial, hI.2.at0 h0⟩⟩)
      (fun k W hI => ⟨hI.1, hI.2.box, HXB.out W hI.2.bel⟩)
      (fun k W hI => ⟨fun h0 => ⟨by omega, by have := hI.2; rwa [show k - 1 + 1 = k by omega]⟩, fun h0 => ⟨trivial, hI.2.at0 h0⟩⟩))
    (HO.out (fun k => k + 1) (fun k => k < len)) (HO.out (fun k => k) (fun k => k < len)) (fun c s W W' row hs hg hr => hs)
    (fun s W W' row hs hg hr => (HO.out (fun _ => 0) (fun _ => True)) 0 W W' row hs hg hr) (fun s W W' row hs hg hr => (HO.out (fun _ => len) (fun _ => True)) 0 W W' row hs hg hr)
    ⟨trivial, HI0.out⟩ (fun k => .cells #[.string (xs.getD k (⟨#[]⟩, ⟨#[]⟩)).1, .string (xs.getD k (⟨#[]⟩, ⟨#[]⟩)).2] 69) ?frame ?assign ?body ?done ?stop
  case assign =>
    intro l s W q hq K hK
    gi_wp2
    exact hK
  case body =>
    rintro l k W ⟨hk, I⟩ hWs
    have hkL : k < xs.length := by omega
    obtain ⟨⟨x, y⟩, hxy⟩ : ∃ f, xs[k]? = some f := ⟨_, List.getElem?_eq_getElem hkL⟩
    have hsz : x.size + y.size ≤ 100000 := by
      have h1 := szL_take_step xs k hkL
      have h2 := szL_take_le xs (k + 1)
      have e : xs[k] = (x, y) := by rw [List.getElem?_eq_getElem hkL] at hxy; injection hxy
      rw [e] at h1
      dsimp only at h1
      omega
    have hdrop : (x, y) :: xs.drop (k + 1) = xs.drop k := by
      rw [List.drop_eq_getElem_cons hkL]
      rw [List.getElem?_eq_getElem hkL] at hxy
      injection hxy with e
      rw [e]
    have hdl : (xs.drop (k + 1)).length < 128 := by rw [List.length_drop]; omega
    have hds : szL (xs.drop (k + 1)) ≤ 100000 := by
      have h1 := szL_append (xs.take (k + 1)) (xs.drop (k + 1))
      rw [List.take_append_drop] at h1
      omega
    simp only [List.getD_eq_getElem?_getD, hxy, Option.getD_some]
    clear hxy
    obtain ⟨V, hV⟩ : ∃ V, W.alloc (.cells #[.string x, .string y] 69) = V := ⟨_, rfl⟩
    have IV : RInv w h a len ca xs (k + 1) V := by
      rw [← hV]
      exact I.kept (row := none) (World.grownBy_alloc _ _ _) (fun r e => by cases e) hhw
    have hbx : Box2 V W.heap.size 69 (.string x) (.string y) := by rw [← hV]; exact Box2.new _ _ _ _
    rw [hV]
    clear hV I
    obtain ⟨p, hR⟩ := IV.ring
    have p1 := IV.ptr.cell
    obtain ⟨x0, x1, _, _⟩ := hbx.cells
    gi_wp2_with fail
    refine ⟨trivial, (CallsIn.inRound l (callsIn_wide.2 (push_any h p (xs.drop (k + 1)) x y V hR hdl hds hsz))).mono ?_⟩
    rintro e V1 ⟨v, rfl, hR1, hG1⟩
    rw [hdrop] at hR1
    gi_wp2_with fail
    have ne : ∀ q, q ≠ h → some q ≠ some h := fun q hq e => hq (by injection e)
    refine ⟨⟨hG1.size, fun q o hq ho _ => (hG1.block q (Array.getElem?_eq_some_iff.1 ho).1 (ne _ (by omega))).trans ho⟩, hk, IV.box.kept hG1 (ne _ (by omega)), IV.ptr.kept hG1 (ne _ (by omega)), ⟨_, hR1⟩, IV.bel.grown hG1 (Nat.le_trans hhw IV.bel.size) (fun q e => by injection e with e; omega)⟩
  case done =>
    rintro D s W hD ⟨_, I⟩ hK
    have p1 := I.ptr.cell
    obtain ⟨p, hR⟩ := I.ring
    dsimp only
    go_wp2_with fail
    have I2 : RInv w h a len ca xs 0 (W.putObj D (.deferred none)) := I.kept (grownBy_putObj' W D _) (fun r e => by injection e with e; omega) hhw
    obtain ⟨p2, hR2⟩ := I2.ring
    refine ⟨by simp, .inl ⟨_, _, rfl, run_takeDeferred hK, ?_⟩⟩
    refine ⟨_, results_tmp rfl _ _ _, h, p2, rfl, by have := HH.out; omega, hR2, ?_⟩
    rw [HH.out]
    exact I2.bel
  case stop =>
    rintro D c s W hD h
    exact h.elim

end Go.Proofs.YtbaijmkghgnleaaGreatDoor
