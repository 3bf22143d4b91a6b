/- The program's ring of a table's fields. The program's TableOk. The program's copy of a table, by the library's Clone. The program's Resize. The program's AddField. -/
import Derived.Test.YtckpacifimpkgacGreatM09
import Derived.Test.YtckpacifimpkgacGreatM10
import Derived.Test.YtckpacifimpkgacGreatM10
import Derived.Test.YtckpacifimpkgacGreatM10
import Derived.Test.YtckpacifimpkgacGreatM08
import Derived.Deep.RegionWith
import Derived.Deep.QuietTactic
import Derived.BigQuiet
import Derived.Lib.SliceRun
namespace Go.Proofs.YtckpacifimpkgacGreat
open Go.RowKit Go.Shelf
set_option linter.unusedVariables false
attribute [local go_sem] Oper.semAt_some

/-- The cells of a new ring. -/
def ring0 : Array Value := Array.replicate 256 (.string ⟨#[]⟩) ++ #[.int .i64 0, .int .i64 0, .int .i64 0]

theorem Tryz.infoG : (Tryz.prog.info? 143).map (fun i => (i.zero, i.size)) = some (some (.agg ring0), 259) := by kernel_rfl

theorem ring0_size : ring0.size = 259 := by simp [ring0]
theorem ring0_one : ring0.all (·.oneCell') = true := by kernel_rfl

theorem RingC.new : RingC ring0 0 [] := by
  refine ⟨ring0_size, by omega, Nat.zero_le _, by kernel_rfl, by kernel_rfl, by kernel_rfl, fun k hk => ⟨⟨#[]⟩, ?_⟩, fun i hi => by simp at hi⟩
  rw [ring0, Array.getElem?_append_left (by simp; omega), Array.getElem?_replicate, if_pos hk]

/-- What holds in the loop: the ring has the fields from j on. -/
structure RInv (w : World) (h : Nat) (a : Option Addr) (N cap : Nat) (xs : List Fld) (j : Nat) (W : World) : Prop where
  box : Boxed W (h + 1 + 1) 24 (.slice a N cap)
  ptr : Boxed W (h + 1) 124 (.pointer (some ⟨h, 0, none⟩))
  ring : ∃ p, Ring W h p (xs.drop j)
  bel : Below h w W

theorem RInv.at0 {w : World} {h : Nat} {a : Option Addr} {N cap : Nat} {xs : List Fld} {j : Nat} {W : World} (I : RInv w h a N cap xs j W) (e : j = 0) : RInv w h a N cap xs 0 W := by
  subst e
  exact I

theorem szL_append (xs ys : List Fld) : szL (xs ++ ys) = szL xs + szL ys := by
  simp only [szL, fldBytes, List.map_append, List.sum_append, List.length_append]
  omega

theorem RInv.kept {w : World} {h : Nat} {a : Option Addr} {N cap : Nat} {xs : List Fld} {j : Nat} {W W' : World} {row : Option Nat} (I : RInv w h a N cap xs j W) (hg : W.grownBy W' row) (hr : ∀ r, row = some r → h + 3 ≤ r) (hw : h ≤ w.heap.size) : RInv w h a N cap xs j W' := by
  have ne : ∀ k, k < h + 3 → some k ≠ row := fun k hk e => by have := hr k e.symm; omega
  obtain ⟨p, hR⟩ := I.ring
  exact ⟨I.box.kept hg (ne _ (by omega)), I.ptr.kept hg (ne _ (by omega)), ⟨p, hR.kept hg (ne _ (by omega))⟩, I.bel.grown hg (Nat.le_trans hw I.bel.size) (fun k hk => by have := hr k hk; omega)⟩

set_option maxRecDepth 10000 in
set_option maxHeartbeats 1600000 in
theorem ringOf_any (a : Option Addr) (len ca : Nat) (xs : List Fld) (w : World) (hx : Flds w a len xs) (hl : len ≤ 128) (hs : szL xs ≤ 100000) :
    Calls Tryz.prog 79 #[.slice a len ca] w fun e w' => ∃ b p, e = .returned (.pointer (some ⟨b, 0, none⟩)) ∧ w.heap.size ≤ b ∧ Ring w' b p xs ∧ Below w.heap.size w w' := by
  have HX : Hid (Flds w a len xs) := hx
  clear hx
  obtain ⟨Z, hZ⟩ : ∃ Z, ring0 = Z := ⟨_, rfl⟩
  have hz : ∀ w, (zeroValue 143).run Tryz.prog w = .ok (.agg Z) w := by rw [← hZ]; exact (zero_of_info Tryz.infoG).1
  have HZ : Hid (RingC Z 0 []) := by rw [← hZ]; exact RingC.new
  have hsi : (Tryz.prog.info? 143).map (·.size) = some Z.size := by rw [HZ.out.size]; exact (zero_of_info Tryz.infoG).2
  have hso : Z.all (·.oneCell') = true := by rw [← hZ]; exact ring0_one
  clear hZ
  refine (callsIn_wide (n := 4)).1 ?_
  refine callsIn_of_wp_marks Tryz.func79 rfl trivial ?_ rfl
  simp only [Tryz.ntmps79, List.size_toArray, List.length_cons, List.length_nil, Nat.reduceAdd, Nat.reduceSub, Array.replicate_succ, Array.replicate_zero, List.push_toArray, List.append_toArray, List.nil_append, List.cons_append]
  refine wpIn_wide.2 ?_
  go_wp2_with fail
  refine (callsIn_wide.1 (backward_any _ _ _ _ 4)).mono ?_
  rintro e w5 ⟨rfl, rfl⟩
  go_wp2_with fail
  obtain ⟨W0, hW0⟩ : ∃ W0, ((w.alloc (Obj.cells Z 143)).alloc (Obj.cells #[Value.pointer (some { block := w.heap.size, off := 0 })] 124)).alloc (Obj.cells #[Value.slice a len ca] 24) = W0 := ⟨_, rfl⟩
  have hs0 : W0.heap.size = w.heap.size + 3 := by rw [← hW0]; simp
  have hxl := HX.out.1
  have HI0 : Hid (RInv w w.heap.size a len ca xs len W0) := by
    refine ⟨?_, ?_, ⟨0, ?_⟩, ?_⟩
    · rw [← hW0]
      have := Boxed.new ((w.alloc (Obj.cells Z 143)).alloc (Obj.cells #[Value.pointer (some { block := w.heap.size, off := 0 })] 124)) 24 (Value.slice a len ca)
      simpa using this
    · rw [← hW0]
      have := (Boxed.new (w.alloc (Obj.cells Z 143)) 124 (Value.pointer (some { block := w.heap.size, off := 0 }))).alloc (Obj.cells #[Value.slice a len ca] 24)
      simpa using this
    · rw [List.drop_of_length_le (by omega)]
      refine ⟨Z, ?_, HZ.out⟩
      rw [← hW0]
      exact kept_alloc (kept_alloc (heap_alloc_new w _) _) _
    · rw [← hW0]
      exact (((Below.refl _ _).alloc (Nat.le_refl _) _).alloc (by simp) _).alloc (by simp; omega) _
  rw [hW0]
  clear hW0 hz hsi hso HZ
  obtain ⟨h, hh⟩ : ∃ h, w.heap.size = h := ⟨_, rfl⟩
  have HH : Hid (w.heap.size = h) := hh
  rw [hh] at HI0 hs0 ⊢
  have hhw : h ≤ w.heap.size := by omega
  have HXB : Hid (∀ W, Below h w W → Flds W a len xs) := fun W hW => HX.out.below (by rw [hh]; exact hW)
  have HO : Hid (∀ (f : Nat → Nat) (P : Nat → Prop), OwnFrom W0.heap.size (fun (k : Nat) W => P k ∧ RInv w h a len ca xs (f k) W)) := fun f P s W W' row hs hg hr =>
    ⟨hs.1, hs.2.kept hg (fun r e => by have := (hr r e).1; omega) hhw⟩
  clear hh
  refine (wpIn_wide (n := 4)).1 ?_
  refine loop_turns_var (n := 4) rfl (by decide) (gf := 89) (lb := #[.pointer (some ⟨h + 1 + 1, 0, none⟩)]) rfl trivial (enters_of Tryz.func89 (by kernel_rfl) rfl) (encB xs) (fun _ => rfl)
    (fun (k : Nat) W => k < len ∧ RInv w h a len ca xs (k + 1) W)
    (fun (k : Nat) W => k < len ∧ RInv w h a len ca xs k W)
    (fun _ _ _ => False)
    (fun (k : Nat) W => True ∧ RInv w h a len ca xs 0 W)
    (fun W => True ∧ RInv w h a len ca xs len W)
    (back_iter 3 _ (h + 1 + 1) a len ca xs (by decide) (by omega) hxl _ _ _ _ _
      (fun W hI => ⟨hI.2.box, fun h0 => ⟨by omega, by have := hI.2; rwa [show len - 1 + 1 = len by omega]⟩, fun h0 => ⟨trivial, hI.2.at0 h0⟩⟩)
      (fun k W hI => ⟨hI.1, hI.2.box, HXB.out W hI.2.bel⟩)
      (fun k W hI => ⟨fun h0 => ⟨by omega, by have := hI.2; rwa [show k - 1 + 1 = k by omega]⟩, fun h0 => ⟨trivial, hI.2.at0 h0⟩⟩))
    (HO.out (fun k => k + 1) (fun k => k < len)) (HO.out (fun k => k) (fun k => k < len)) (fun c s W W' row hs hg hr => hs)
    (fun s W W' row hs hg hr => (HO.out (fun _ => 0) (fun _ => True)) 0 W W' row hs hg hr) (fun s W W' row hs hg hr => (HO.out (fun _ => len) (fun _ => True)) 0 W W' row hs hg hr)
    ⟨trivial, HI0.out⟩ (fun k => .cells #[.string (xs.getD k (⟨#[]⟩, ⟨#[]⟩)).1, .string (xs.getD k (⟨#[]⟩, ⟨#[]⟩)).2] 43) ?frame ?assign ?body ?done ?stop
  case assign =>
    intro l s W q hq K hK
    gi_wp2
    exact hK
  case body =>
    rintro l k W ⟨hk, I⟩ hWs
    have hkL : k < xs.length := by omega
    obtain ⟨⟨x, y⟩, hxy⟩ : ∃ f, xs[k]? = some f := ⟨_, List.getElem?_eq_getElem hkL⟩
    have hsz : x.size + y.size ≤ 100000 := by
      have h1 := szL_take_step xs k hkL
      have h2 := szL_take_le xs (k + 1)
      have e : xs[k] = (x, y) := by rw [List.getElem?_eq_getElem hkL] at hxy; injection hxy
      rw [e] at h1
      dsimp only at h1
      omega
    have hdrop : (x, y) :: xs.drop (k + 1) = xs.drop k := by
      rw [List.drop_eq_getElem_cons hkL]
      rw [List.getElem?_eq_getElem hkL] at hxy
      injection hxy with e
      rw [e]
    have hdl : (xs.drop (k + 1)).length < 128 := by rw [List.length_drop]; omega
    have hds : szL (xs.drop (k + 1)) ≤ 100000 := by
      have h1 := szL_append (xs.take (k + 1)) (xs.drop (k + 1))
      rw [List.take_append_drop] at h1
      omega
    simp only [List.getD_eq_getElem?_getD, hxy, Option.getD_some]
    clear hxy
    obtain ⟨V, hV⟩ : ∃ V, W.alloc (.cells #[.string x, .string y] 43) = V := ⟨_, rfl⟩
    have IV : RInv w h a len ca xs (k + 1) V := by
      rw [← hV]
      exact I.kept (row := none) (World.grownBy_alloc _ _ _) (fun r e => by cases e) hhw
    have hbx : Box2 V W.heap.size 43 (.string x) (.string y) := by rw [← hV]; exact Box2.new _ _ _ _
    rw [hV]
    clear hV I
    obtain ⟨p, hR⟩ := IV.ring
    have p1 := IV.ptr.cell
    obtain ⟨x0, x1, _, _⟩ := hbx.cells
    gi_wp2_with fail
    refine ⟨trivial, (CallsIn.inRound l (callsIn_wide.2 (push_any h p (xs.drop (k + 1)) x y V hR hdl hds hsz))).mono ?_⟩
    rintro e V1 ⟨v, rfl, hR1, hG1⟩
    rw [hdrop] at hR1
    gi_wp2_with fail
    have ne : ∀ q, q ≠ h → some q ≠ some h := fun q hq e => hq (by injection e)
    refine ⟨⟨hG1.size, fun q o hq ho _ => (hG1.block q (Array.getElem?_eq_some_iff.1 ho).1 (ne _ (by omega))).trans ho⟩, hk, IV.box.kept hG1 (ne _ (by omega)), IV.ptr.kept hG1 (ne _ (by omega)), ⟨_, hR1⟩, IV.bel.grown hG1 (Nat.le_trans hhw IV.bel.size) (fun q e => by injection e with e; omega)⟩
  case done =>
    rintro D s W hD ⟨_, I⟩ hK
    have p1 := I.ptr.cell
    obtain ⟨p, hR⟩ := I.ring
    dsimp only
    go_wp2_with fail
    have I2 : RInv w h a len ca xs 0 (W.putObj D (.deferred none)) := I.kept (grownBy_putObj' W D _) (fun r e => by injection e with e; omega) hhw
    obtain ⟨p2, hR2⟩ := I2.ring
    refine ⟨by simp, .inl ⟨_, _, rfl, run_takeDeferred hK, ?_⟩⟩
    refine ⟨_, results_tmp rfl _ _ _, h, p2, rfl, by have := HH.out; omega, hR2, ?_⟩
    rw [HH.out]
    exact I2.bel
  case stop =>
    rintro D c s W hD h
    exact h.elim

end Go.Proofs.YtckpacifimpkgacGreat

namespace Go.Proofs.YtckpacifimpkgacGreat
open Go.RowKit
set_option linter.unusedVariables false

/-- A Max that is right. -/
def okMax (m : Int) : Bool := decide (0 ≤ m ∧ m ≤ 4096)

set_option maxHeartbeats 400000 in
theorem maxOk_any (m : Int) (w : World) : Calls Tryz.prog 17 #[.int .i64 m] w fun e w' => e = .returned (.bool (okMax m)) ∧ w' = w := by
  have HM : Hid (okMax m = (decide (0 ≤ m) && decide (m ≤ 4096))) := by show _ = _; simp [okMax]
  go_enter Tryz.func17, Tryz.ntmps17
  rw [HM.out]
  by_cases h0 : 0 ≤ m
  · go_wp2
    go_ret
    exact ⟨ret_bool (by simp [h0]), rfl⟩
  · go_wp2
    go_ret
    exact ⟨ret_bool (by simp; omega), rfl⟩

set_option maxRecDepth 10000 in
set_option maxHeartbeats 1600000 in
theorem implOk_any (m : Int) (a : Option Addr) (len ca : Nat) (xs : List Fld) (w : World) (hx : Flds w a len xs) (hl : len + fldBytes xs ≤ 2097152) :
    Calls Tryz.prog 11 #[.agg #[.int .i64 m, .slice a len ca]] w fun e w' => e = .returned (.bool (okT m xs)) ∧ Below w.heap.size w w' := by
  have HX : Hid (Flds w a len xs) := hx
  have hlen := hx.1
  clear hx
  obtain ⟨w1, hw1⟩ : ∃ w1, w.alloc (.cells #[.int .i64 m, .slice a len ca] 26) = w1 := ⟨_, rfl⟩
  have hbx : w1.heap[w.heap.size]? = some (.cells #[.int .i64 m, .slice a len ca] 26 (0, 0)) := by rw [← hw1]; exact heap_alloc_new w _
  have HB1 : Hid (Below w.heap.size w w1) := by show Below _ _ _; rw [← hw1]; exact (Below.refl _ _).alloc (Nat.le_refl _) _
  have hs1 : w.heap.size < w1.heap.size := by rw [← hw1]; simp
  have c0 : w1.cell? ⟨w.heap.size, 0, none⟩ = some (.int .i64 m) := by rw [cell_of_row _ _ _ _ _ _ hbx]; rfl
  have c1 : w1.cell? ⟨w.heap.size, 1, none⟩ = some (.slice a len ca) := by rw [cell_of_row _ _ _ _ _ _ hbx]; rfl
  have HT : Hid (∀ W : World, Below w1.heap.size w1 W → Flds W a len xs ∧ Below w.heap.size w W ∧ W.cell? ⟨w.heap.size, 0, none⟩ = some (.int .i64 m) ∧ W.cell? ⟨w.heap.size, 1, none⟩ = some (.slice a len ca)) := fun W hW =>
    have hb := HB1.out.trans (hW.mono HB1.out.size)
    ⟨HX.out.below hb, hb, (hW.cell (p := ⟨_, _, none⟩) hs1).trans c0, (hW.cell (p := ⟨_, _, none⟩) hs1).trans c1⟩
  clear hbx
  by_cases hin : 0 ≤ m ∧ m ≤ 4096
  · have hans : okT m xs = decide ((32 * len + fldBytes xs : Int) ≤ m) := by
      unfold okT szL
      rw [hlen]
      simp [hin.1, hin.2]
    have HAns : Hid (okT m xs = decide ((32 * len + fldBytes xs : Int) ≤ m)) := hans
    obtain ⟨h0, h1⟩ := hin
    have hmx : okMax m = true := by simp [okMax, h0, h1]
    have HMx : Hid (∀ w : World, Calls Tryz.prog 17 #[.int .i64 m] w fun e w' => e = .returned (.bool true) ∧ w' = w) := fun w => by rw [← hmx]; exact maxOk_any m w
    clear hans hmx
    go_enter Tryz.func11, Tryz.ntmps11
    go_wp2_with fail
    go_region_with (first
      | (go_at_call 17; refine (HMx.out _).mono ?_; rintro e x1 ⟨rfl, rfl⟩)
      | (go_at_call 30; refine (implSize_any m a len ca xs _ (HT.out _ (Below.refl _ _).drew).1 hl).mono ?_; rintro e x2 ⟨rfl, hb2⟩; have hb2' : Below w1.heap.size w1 x2 := (Below.refl w1.heap.size w1).drew.trans (hb2.mono (Nat.le_refl _)); have k0 := (HT.out _ hb2').2.2.1))
    all_goals
      have HB2 : Hid (Below w.heap.size w x2) := (HT.out _ hb2').2.1
      clear hb2 hb2' k0
      go_wp2
      go_ret
      exact ⟨ret_bool HAns.out.symm, HB2.out⟩
  · have hans : okT m xs = false := by
      unfold okT
      simp
      omega
    have HAns : Hid (okT m xs = false) := hans
    have HIn : Hid (m < 0 ∨ 4096 < m) := by show _ ∨ _; omega
    have hmx : okMax m = false := by have := HIn.out; simp [okMax]; omega
    have HMx : Hid (∀ w : World, Calls Tryz.prog 17 #[.int .i64 m] w fun e w' => e = .returned (.bool false) ∧ w' = w) := fun w => by rw [← hmx]; exact maxOk_any m w
    clear hans hin hmx
    go_enter Tryz.func11, Tryz.ntmps11
    go_wp2_with fail
    go_quiet (first | (go_at_call 17; exact Calls.quiet_of_same (HMx.out _)))
    go_wp2
    go_ret
    exact ⟨ret_bool HAns.out.symm, below_drewN HB1.out nq⟩

end Go.Proofs.YtckpacifimpkgacGreat

namespace Go.Proofs.YtckpacifimpkgacGreat
open Go.RowKit
set_option linter.unusedVariables false

set_option maxRecDepth 10000 in
set_option maxHeartbeats 1600000 in
theorem clone4_any (a : Option Addr) (len ca : Nat) (xs : List Fld) (w : World) (hx : Flds w a len xs) (hl : len ≤ 2097152) :
    Calls Tryz.prog 33 #[.slice a len ca] w fun e w' => ∃ a' ca', e = .returned (.slice a' len ca') ∧ OwnF w' w.heap.size (.slice a' len ca') len xs ∧ Below w.heap.size w w' := by
  cases a with
  | none =>
    obtain rfl : len = 0 := hx.none_nil rfl
    obtain rfl : xs = [] := List.eq_nil_of_length_eq_zero hx.1
    clear hx
    have qT : ∀ (w : World) (a : Option Addr) (n c n' c' : Nat), (binOp .eql 24 (.slice a n c) (.slice none n' c')).run Tryz.prog w = .ok (.bool a.isNone) w := fun w a n c n' c' => Lib.run_eql_slice_nil w _ _ a n c n' c' Tryz.underlying24
    go_enter Tryz.func33, Tryz.ntmps33
    go_wp2
    go_ret
    exact ⟨none, 0, rfl, ⟨World.ownsRow_nil _ _ _ _, fun f hf => by cases hf⟩, Below.refl _ _⟩
  | some ad =>
    obtain ⟨i0, hi, hz0, hz1, hz2⟩ := info_parts info_field
    have HX : Hid (Flds w (some ad) len xs) := hx
    have hlen := hx.1
    clear hx
    have qT : ∀ (w : World) (a : Option Addr) (n c n' c' : Nat), (binOp .eql 24 (.slice a n c) (.slice none n' c')).run Tryz.prog w = .ok (.bool a.isNone) w := fun w a n c n' c' => Lib.run_eql_slice_nil w _ _ a n c n' c' Tryz.underlying24
    have HF1 : Hid (Flds (w.alloc (.cells #[] 43)) (some ad) len xs) := HX.out.below ((Below.refl _ _).alloc (Nat.le_refl _) _)
    have HO1 : Hid ((w.alloc (.cells #[] 43)).ownsRow w.heap.size 43 2 (.slice (some ⟨w.heap.size, 0, none⟩) 0 0) 0 []) := World.ownsRow_lit w #[] 0 (Nat.le_refl _) (Nat.zero_le _) rfl
    have HA : Hid (0 + len ≤ maxLen ∧ (0 + len) * 32 ≤ 140737488355328 ∧ (fieldCells xs).length = len * 2) := ⟨by unfold maxLen; omega, by omega, by rw [fieldCells_len]; omega⟩
    go_enter Tryz.func33, Tryz.ntmps33
    go_wp2_with (first | (refine wpList_plain rfl fun K hK => ?_; refine wp_append_src (.tmp 5) (.tmp 6) 24 rfl w.heap.size 43 i0 (.agg #[.string ⟨#[]⟩, .string ⟨#[]⟩]) 2 32 Tryz.underlying24 hi hz0 hz1 hz2 rfl (by decide) w.heap.size 0 0 [] rfl HO1.out (some ad) len ca (fieldCells xs) rfl (fun h => by cases h) HA.out.2.2 HF1.out.cells (fieldCells_one xs) HA.out.1 HA.out.2.1 (by simp) ?_; intro v4 w4 hown hgrow; obtain ⟨a4, cap4, rfl⟩ := own_shape hown; refine hK _ _ ?_) | fail)
    have HB4 : Hid (Below w.heap.size w w4) := ((Below.refl _ _).alloc (Nat.le_refl _) _).grown hgrow (by simp) (by simp)
    have HO4 : Hid (OwnF w4 w.heap.size (.slice a4 len cap4) len xs) := by
      refine ⟨?_, HX.out.2.1⟩
      have := hown
      rw [Nat.zero_add, List.nil_append] at this
      exact this
    clear hown hgrow
    go_ret
    exact ⟨a4, cap4, rfl, HO4.out, HB4.out⟩

set_option maxRecDepth 10000 in
set_option maxHeartbeats 1600000 in
theorem implCopy_any (m : Int) (a : Option Addr) (len ca : Nat) (xs : List Fld) (w : World) (hx : Flds w a len xs) (hl : len ≤ 2097152) :
    Calls Tryz.prog 15 #[.agg #[.int .i64 m, .slice a len ca]] w fun e w' => ∃ v, e = .returned (.agg #[.int .i64 m, v]) ∧ OwnF w' w.heap.size v len xs ∧ Below w.heap.size w w' := by
  have HX : Hid (Flds w a len xs) := hx
  clear hx
  go_enter Tryz.func15, Tryz.ntmps15
  go_wp2_with fail
  obtain ⟨w2, hw2⟩ : ∃ w2, (w.alloc (.cells #[.int .i64 m, .slice a len ca] 26)).alloc (.cells #[.int .i64 0, .slice none 0 0] 26) = w2 := ⟨_, rfl⟩
  have q1 : Box2 w2 w.heap.size 26 (.int .i64 m) (.slice a len ca) := by rw [← hw2]; exact (Box2.new _ _ _ _).alloc _
  have q2 : Box2 w2 (w.heap.size + 1) 26 (.int .i64 0) (.slice none 0 0) := by
    rw [← hw2]
    have := Box2.new (w.alloc (.cells #[.int .i64 m, .slice a len ca] 26)) 26 (.int .i64 0) (.slice none 0 0)
    rwa [World.size_alloc] at this
  have HB2 : Hid (Below w.heap.size w w2) := by show Below _ _ _; rw [← hw2]; exact ((Below.refl _ _).alloc (Nat.le_refl _) _).alloc (by simp) _
  have HW2 : Hid (w2.heap.size = w.heap.size + 2) := by show _ = _; rw [← hw2]; simp
  have HQ : Hid (∀ W, Below w2.heap.size w2 W → Box2 W w.heap.size 26 (.int .i64 m) (.slice a len ca) ∧ Box2 W (w.heap.size + 1) 26 (.int .i64 0) (.slice none 0 0)) := fun W h => ⟨q1.stays h, q2.stays h⟩
  rw [hw2]
  clear hw2
  obtain ⟨c0, c1, _, _⟩ := q1.cells
  clear q1 q2
  go_region_with (first
    | (go_at_call 33; refine (clone4_any a len ca xs _ (HX.out.below HB2.out.drew) hl).mono ?_; rintro e w4 ⟨a4, cap4, rfl, hown, hb4⟩; have hb4' : Below w2.heap.size w2 w4 := (Below.refl w2.heap.size w2).drew.trans (hb4.mono (Nat.le_refl _)); obtain ⟨e0, e1, _, _⟩ := (HQ.out _ hb4').1.cells; obtain ⟨g0, g1, g2, g3⟩ := (HQ.out _ hb4').2.cells))
  all_goals
    have h2 := HW2.out
    have HO4 : Hid (OwnF ((w4.setCell ⟨w.heap.size + 1, 0, none⟩ (.int .i64 m)).setCell ⟨w.heap.size + 1, 1, none⟩ (.slice a4 len cap4)) w.heap.size (.slice a4 len cap4) len xs ∧ Below w.heap.size w ((w4.setCell ⟨w.heap.size + 1, 0, none⟩ (.int .i64 m)).setCell ⟨w.heap.size + 1, 1, none⟩ (.slice a4 len cap4))) := by
      have hb : Below w.heap.size w w4 := HB2.out.trans (hb4'.mono HB2.out.size)
      have := put_box hb (by omega) (HQ.out _ hb4').2 (base := w2.drew.heap.size) (by show _ < w2.heap.size; omega) hown m
      exact ⟨this.2.2, this.1⟩
    clear hown hb4 hb4' h2
    go_wp2
    refine bodyPost_ret (v := .agg #[.int .i64 m, .slice a4 len cap4]) (by simp [results, Tryz.f15, go_sem, g0, g1]) rfl ?_
    exact ⟨_, rfl, HO4.out.1, HO4.out.2⟩

end Go.Proofs.YtckpacifimpkgacGreat

namespace Go.Proofs.YtckpacifimpkgacGreat
open Go.RowKit
set_option linter.unusedVariables false

theorem okT_few {m : Int} {xs : List Fld} (h : okT m xs = true) : xs.length ≤ 128 ∧ szL xs ≤ 4096 ∧ 0 ≤ m ∧ m ≤ 4096 ∧ (szL xs : Int) ≤ m := by
  have h1 : 0 ≤ m ∧ m ≤ 4096 ∧ (szL xs : Int) ≤ m := of_decide_eq_true h
  have h2 : 32 * xs.length ≤ szL xs := by unfold szL; omega
  omega

theorem Left.fit {n : Int} {xs : List Fld} {k : Nat} (h : Left n xs k) (h0 : 0 ≤ n) : FitN n.toNat xs k := by
  obtain ⟨h1, h2, h3⟩ := h
  refine ⟨h1, ?_, ?_⟩
  · rcases h2 with rfl | h2
    · simp [szL, fldBytes]
    · omega
  · rcases h3 with h3 | h3
    · exact .inl h3
    · exact .inr (by omega)

theorem ret_tab {w : World} {b : Nat} {t : TypeId} {x y : Value} (h : Box2 w b t x y) : w.cell? ⟨b, 0, none⟩ = some x ∧ w.cell? ⟨b, 1, none⟩ = some y := ⟨h.cells.1, h.cells.2.1⟩

set_option maxRecDepth 10000 in
set_option maxHeartbeats 1600000 in
theorem implRes_any (m n : Int) (a : Option Addr) (len ca : Nat) (xs : List Fld) (w : World) (hx : Flds w a len xs) (hl : len + fldBytes xs ≤ 2097152) :
    Calls Tryz.prog 60 #[.agg #[.int .i64 m, .slice a len ca], .int .i64 n] w fun e w' => ∃ v m' k ys, e = .returned (.agg #[.int .i64 m', v]) ∧ CutAns m n xs m' ys ∧ OwnF w' w.heap.size v k ys ∧ Below w.heap.size w w' := by
  have HX : Hid (Flds w a len xs) := hx
  have hlen := hx.1
  clear hx
  obtain ⟨w2, hw2⟩ : ∃ w2, (w.alloc (.cells #[.int .i64 m, .slice a len ca] 26)).alloc (.cells #[.int .i64 0, .slice none 0 0] 26) = w2 := ⟨_, rfl⟩
  have q1 : Box2 w2 w.heap.size 26 (.int .i64 m) (.slice a len ca) := by rw [← hw2]; exact (Box2.new _ _ _ _).alloc _
  have q2 : Box2 w2 (w.heap.size + 1) 26 (.int .i64 0) (.slice none 0 0) := by
    rw [← hw2]
    have := Box2.new (w.alloc (.cells #[.int .i64 m, .slice a len ca] 26)) 26 (.int .i64 0) (.slice none 0 0)
    rwa [World.size_alloc] at this
  have HB2 : Hid (Below w.heap.size w w2) := by show Below _ _ _; rw [← hw2]; exact ((Below.refl _ _).alloc (Nat.le_refl _) _).alloc (by simp) _
  have HW2 : Hid (w2.heap.size = w.heap.size + 2) := by show _ = _; rw [← hw2]; simp
  have HQ : Hid (∀ W, Below w2.heap.size w2 W → Box2 W w.heap.size 26 (.int .i64 m) (.slice a len ca) ∧ Box2 W (w.heap.size + 1) 26 (.int .i64 0) (.slice none 0 0) ∧ Flds W a len xs ∧ Below w.heap.size w W) := fun W h =>
    have hb := HB2.out.trans (h.mono HB2.out.size)
    ⟨q1.stays h, q2.stays h, HX.out.below hb, hb⟩
  obtain ⟨c0, c1, _, _⟩ := q1.cells
  clear q1 q2
  go_enter Tryz.func60, Tryz.ntmps60
  go_wp2_with fail
  refine (implOk_any m a len ca xs _ (HQ.out _ (Below.refl _ _)).2.2.1 hl).mono ?_
  rintro e w3 ⟨rfl, hb3⟩
  have HB3 : Hid (Below w2.heap.size w2 w3) := hb3
  obtain ⟨d0, d1, _, _⟩ := (HQ.out _ hb3).1.cells
  clear hb3 c0 c1 hw2
  have HC : Hid (∀ (v : Value) (k : Nat) (W : World) (ys : List Fld) (m' : Int) (base : Nat), Below w2.heap.size w2 W → w2.heap.size ≤ base → OwnF W base v k ys → Below w.heap.size w ((W.setCell ⟨w.heap.size + 1, 0, none⟩ (.int .i64 m')).setCell ⟨w.heap.size + 1, 1, none⟩ v) ∧ Box2 ((W.setCell ⟨w.heap.size + 1, 0, none⟩ (.int .i64 m')).setCell ⟨w.heap.size + 1, 1, none⟩ v) (w.heap.size + 1) 26 (.int .i64 m') v ∧ OwnF ((W.setCell ⟨w.heap.size + 1, 0, none⟩ (.int .i64 m')).setCell ⟨w.heap.size + 1, 1, none⟩ v) w.heap.size v k ys) := fun v k W ys m' base hW hbase ho =>
    put_box (HQ.out _ hW).2.2.2 (by omega) (HQ.out _ hW).2.1 (by have := HW2.out; omega) ho m'
  have HCopy : Hid (∀ (W : World), Below w2.heap.size w2 W → Calls Tryz.prog 15 #[.agg #[.int .i64 m, .slice a len ca]] W fun e w' => ∃ a' c', e = .returned (.agg #[.int .i64 m, .slice a' len c']) ∧ OwnF w' W.heap.size (.slice a' len c') len xs ∧ Below w2.heap.size w2 w') := by
    intro W hW
    refine (implCopy_any m a len ca xs W (HQ.out _ hW).2.2.1 (by omega)).mono ?_
    rintro e w' ⟨v, rfl, ho, hb⟩
    obtain ⟨a', c', rfl⟩ := ho.shape
    exact ⟨a', c', rfl, ho, hW.trans (hb.mono hW.size)⟩
  cases hok : okT m xs with
  | false =>
    have HAns : Hid (CutAns m n xs m xs) := .inr ⟨by rw [hok]; simp, rfl, rfl⟩
    clear hok
    go_wp2_with fail
    refine (HCopy.out w3 HB3.out).mono ?_
    rintro e w5 ⟨a5, c5, rfl, ho5, hb5⟩
    obtain ⟨g0, g1, g2, g3⟩ := (HQ.out _ hb5).2.1.cells
    have HF : Hid (Below w.heap.size w ((w5.setCell ⟨w.heap.size + 1, 0, none⟩ (.int .i64 m)).setCell ⟨w.heap.size + 1, 1, none⟩ (.slice a5 len c5)) ∧ Box2 ((w5.setCell ⟨w.heap.size + 1, 0, none⟩ (.int .i64 m)).setCell ⟨w.heap.size + 1, 1, none⟩ (.slice a5 len c5)) (w.heap.size + 1) 26 (.int .i64 m) (.slice a5 len c5) ∧ OwnF ((w5.setCell ⟨w.heap.size + 1, 0, none⟩ (.int .i64 m)).setCell ⟨w.heap.size + 1, 1, none⟩ (.slice a5 len c5)) w.heap.size (.slice a5 len c5) len xs) := HC.out _ _ _ _ m _ hb5 HB3.out.size ho5
    clear ho5 hb5 d0 d1
    go_wp2_with fail
    obtain ⟨r0, r1⟩ := ret_tab HF.out.2.1
    refine bodyPost_ret (v := .agg #[.int .i64 m, .slice a5 len c5]) (by simp [results, Tryz.f60, go_sem, r0, r1]) rfl ?_
    exact ⟨_, m, len, xs, rfl, HAns.out, HF.out.2.2, HF.out.1⟩
  | true =>
    obtain ⟨hfew, hz, hm0, hm1, hzm⟩ := okT_few hok
    cases hmx : okMax n with
    | false =>
      have HAns : Hid (CutAns m n xs m xs) := .inr ⟨fun h => (by have h2 : okMax n = true := decide_eq_true h.2; rw [hmx] at h2; cases h2), rfl, rfl⟩
      have HM : Hid (∀ w : World, Calls Tryz.prog 17 #[.int .i64 n] w fun e w' => e = .returned (.bool false) ∧ w' = w) := fun w => by have := maxOk_any n w; rwa [hmx] at this
      clear hok hmx
      go_wp2_with fail
      refine (HM.out _).mono ?_
      rintro e w4 ⟨rfl, rfl⟩
      go_wp2_with fail
      refine (HCopy.out w4 HB3.out).mono ?_
      rintro e w5 ⟨a5, c5, rfl, ho5, hb5⟩
      obtain ⟨g0, g1, g2, g3⟩ := (HQ.out _ hb5).2.1.cells
      have HF : Hid (Below w.heap.size w ((w5.setCell ⟨w.heap.size + 1, 0, none⟩ (.int .i64 m)).setCell ⟨w.heap.size + 1, 1, none⟩ (.slice a5 len c5)) ∧ Box2 ((w5.setCell ⟨w.heap.size + 1, 0, none⟩ (.int .i64 m)).setCell ⟨w.heap.size + 1, 1, none⟩ (.slice a5 len c5)) (w.heap.size + 1) 26 (.int .i64 m) (.slice a5 len c5) ∧ OwnF ((w5.setCell ⟨w.heap.size + 1, 0, none⟩ (.int .i64 m)).setCell ⟨w.heap.size + 1, 1, none⟩ (.slice a5 len c5)) w.heap.size (.slice a5 len c5) len xs) := HC.out _ _ _ _ m _ hb5 HB3.out.size ho5
      clear ho5 hb5 d0 d1
      go_wp2_with fail
      obtain ⟨r0, r1⟩ := ret_tab HF.out.2.1
      refine bodyPost_ret (v := .agg #[.int .i64 m, .slice a5 len c5]) (by simp [results, Tryz.f60, go_sem, r0, r1]) rfl ?_
      exact ⟨_, m, len, xs, rfl, HAns.out, HF.out.2.2, HF.out.1⟩
    | true =>
      have hn : 0 ≤ n ∧ n ≤ 4096 := of_decide_eq_true hmx
      have HM : Hid (∀ w : World, Calls Tryz.prog 17 #[.int .i64 n] w fun e w' => e = .returned (.bool true) ∧ w' = w) := fun w => by have := maxOk_any n w; rwa [hmx] at this
      have HOk : Hid (okT m xs = true) := hok
      clear hok hmx
      go_wp2_with fail
      refine (HM.out _).mono ?_
      rintro e w4 ⟨rfl, rfl⟩
      go_wp2_with fail
      refine (ringOf_any a len ca xs _ (HQ.out _ HB3.out).2.2.1 (by omega) (by omega)).mono ?_
      rintro e w5 ⟨b, p, rfl, hbl, hR5, hb5⟩
      have HR5 : Hid (Ring w5 b p xs) := hR5
      have HB5 : Hid (Below w2.heap.size w2 w5) := HB3.out.trans (hb5.mono HB3.out.size)
      have hbl2 : w2.heap.size ≤ b := Nat.le_trans HB3.out.size hbl
      clear hR5 hb5 d0 d1 hbl
      go_wp2_with fail
      refine (shrink_any b p xs n _ HR5.out (by omega)).mono ?_
      rintro e w6 ⟨v6, k, rfl, hL, hR6, hg6⟩
      have HR6 : Hid (Ring w6 b p (xs.take k)) := hR6
      have HB6 : Hid (Below w2.heap.size w2 w6) := HB5.out.grown hg6 HB5.out.size (fun q e => by injection e with e; omega)
      have HAns : Hid (CutAns m n xs n (xs.take k)) := .inl ⟨⟨HOk.out, hn⟩, rfl, k, hL.fit hn.1, rfl⟩
      clear hR6 hg6 hL
      go_wp2_with fail
      refine (list_any b p (xs.take k) _ HR6.out (fun f hf => HX.out.2.1 f (List.mem_of_mem_take hf))).mono ?_
      rintro e w7 ⟨v7, rfl, ho7, hb7⟩
      obtain ⟨a7, c7, rfl⟩ := ho7.shape
      generalize (xs.take k).length = k7 at ho7 ⊢
      have hb7' : Below w2.heap.size w2 w7 := HB6.out.trans (hb7.mono HB6.out.size)
      obtain ⟨g0, g1, g2, g3⟩ := (HQ.out _ hb7').2.1.cells
      have HF : Hid (Below w.heap.size w ((w7.setCell ⟨w.heap.size + 1, 0, none⟩ (.int .i64 n)).setCell ⟨w.heap.size + 1, 1, none⟩ (.slice a7 k7 c7)) ∧ Box2 ((w7.setCell ⟨w.heap.size + 1, 0, none⟩ (.int .i64 n)).setCell ⟨w.heap.size + 1, 1, none⟩ (.slice a7 k7 c7)) (w.heap.size + 1) 26 (.int .i64 n) (.slice a7 k7 c7) ∧ OwnF ((w7.setCell ⟨w.heap.size + 1, 0, none⟩ (.int .i64 n)).setCell ⟨w.heap.size + 1, 1, none⟩ (.slice a7 k7 c7)) w.heap.size (.slice a7 k7 c7) k7 (xs.take k)) := HC.out _ _ _ _ n _ hb7' HB6.out.size ho7
      clear ho7 hb7 hb7'
      go_wp2_with fail
      obtain ⟨r0, r1⟩ := ret_tab HF.out.2.1
      refine bodyPost_ret (v := .agg #[.int .i64 n, .slice a7 k7 c7]) (by simp [results, Tryz.f60, go_sem, r0, r1]) rfl ?_
      exact ⟨_, n, k7, xs.take k, rfl, HAns.out, HF.out.2.2, HF.out.1⟩

end Go.Proofs.YtckpacifimpkgacGreat

namespace Go.Proofs.YtckpacifimpkgacGreat
open Go.RowKit
set_option linter.unusedVariables false

theorem add_fits {m : Int} {xs : List Fld} {x y : ByteArray} {k : Nat} (h : Left (m - ((x.size : Int) + (y.size : Int) + 32)) xs k) (hm : (x.size : Int) + (y.size : Int) + 32 ≤ m) : FitN m.toNat ((x, y) :: xs) (k + 1) ∧ (szL (xs.take k) : Int) ≤ m - ((x.size : Int) + (y.size : Int) + 32) := by
  obtain ⟨h1, h2, h3⟩ := h
  have hz : (szL (xs.take k) : Int) ≤ m - ((x.size : Int) + (y.size : Int) + 32) := by
    rcases h2 with rfl | h2
    · simp only [List.take_zero, szL_nil]; omega
    · exact h2
  refine ⟨⟨by simp; omega, ?_, ?_⟩, hz⟩
  · rw [List.take_succ_cons, szL_cons]
    dsimp only
    omega
  · rcases h3 with h3 | h3
    · exact .inl (by simp; omega)
    · refine .inr ?_
      rw [List.take_succ_cons, szL_cons]
      dsimp only
      omega

theorem add_none {m : Int} {xs : List Fld} {x y : ByteArray} {k : Nat} (h : Left (m - ((x.size : Int) + (y.size : Int) + 32)) xs k) (h0 : 0 ≤ m) (hm : m < (x.size : Int) + (y.size : Int) + 32) : k = 0 ∧ FitN m.toNat ((x, y) :: xs) 0 := by
  obtain ⟨h1, h2, h3⟩ := h
  refine ⟨?_, Nat.zero_le _, by simp [szL_nil], .inr ?_⟩
  · rcases h2 with h2 | h2
    · exact h2
    · omega
  · rw [List.take_succ_cons, szL_cons]
    dsimp only
    omega

set_option maxRecDepth 10000 in
set_option maxHeartbeats 3200000 in
theorem implAddF_any (m : Int) (a : Option Addr) (len ca : Nat) (xs : List Fld) (x y : ByteArray) (w : World) (hx : Flds w a len xs) (hf : x.size ≤ maxLen ∧ y.size ≤ maxLen) (hl : len + (x.size + y.size) + fldBytes xs ≤ 1048576) :
    Calls Tryz.prog 56 #[.agg #[.int .i64 m, .slice a len ca], .agg #[.string x, .string y]] w fun e w' => ∃ v n ys, e = .returned (.agg #[.int .i64 m, v]) ∧ AddAns m xs (x, y) ys ∧ OwnF w' w.heap.size v n ys ∧ Below w.heap.size w w' := by
  have HX : Hid (Flds w a len xs) := hx
  have hlen := hx.1
  clear hx
  obtain ⟨w2, hw2⟩ : ∃ w2, ((w.alloc (.cells #[.int .i64 m, .slice a len ca] 26)).alloc (.cells #[.string x, .string y] 43)).alloc (.cells #[.int .i64 0, .slice none 0 0] 26) = w2 := ⟨_, rfl⟩
  have q1 : Box2 w2 w.heap.size 26 (.int .i64 m) (.slice a len ca) := by rw [← hw2]; exact ((Box2.new _ _ _ _).alloc _).alloc _
  have q3 : Box2 w2 (w.heap.size + 1) 43 (.string x) (.string y) := by
    rw [← hw2]
    have := (Box2.new (w.alloc (.cells #[.int .i64 m, .slice a len ca] 26)) 43 (.string x) (.string y)).alloc (.cells #[.int .i64 0, .slice none 0 0] 26)
    rwa [World.size_alloc] at this
  have q2 : Box2 w2 (w.heap.size + 1 + 1) 26 (.int .i64 0) (.slice none 0 0) := by
    rw [← hw2]
    have := Box2.new ((w.alloc (.cells #[.int .i64 m, .slice a len ca] 26)).alloc (.cells #[.string x, .string y] 43)) 26 (.int .i64 0) (.slice none 0 0)
    rwa [World.size_alloc, World.size_alloc] at this
  have HB2 : Hid (Below w.heap.size w w2) := by show Below _ _ _; rw [← hw2]; exact (((Below.refl _ _).alloc (Nat.le_refl _) _).alloc (by simp) _).alloc (by simp; omega) _
  have HW2 : Hid (w2.heap.size = w.heap.size + 3) := by show _ = _; rw [← hw2]; simp
  have HQ : Hid (∀ W, Below w2.heap.size w2 W → Box2 W w.heap.size 26 (.int .i64 m) (.slice a len ca) ∧ Box2 W (w.heap.size + 1 + 1) 26 (.int .i64 0) (.slice none 0 0) ∧ Flds W a len xs ∧ Below w.heap.size w W ∧ Box2 W (w.heap.size + 1) 43 (.string x) (.string y)) := fun W h =>
    have hb := HB2.out.trans (h.mono HB2.out.size)
    ⟨q1.stays h, q2.stays h, HX.out.below hb, hb, q3.stays h⟩
  obtain ⟨c0, c1, _, _⟩ := q1.cells
  clear q1 q2 q3
  go_enter Tryz.func56, Tryz.ntmps56
  go_wp2_with fail
  refine (implOk_any m a len ca xs _ (HQ.out _ (Below.refl _ _)).2.2.1 (by omega)).mono ?_
  rintro e w3 ⟨rfl, hb3⟩
  have HB3 : Hid (Below w2.heap.size w2 w3) := hb3
  obtain ⟨d0, d1, _, _⟩ := (HQ.out _ hb3).1.cells
  obtain ⟨d2, d3, _, _⟩ := (HQ.out _ hb3).2.2.2.2.cells
  clear hb3 c0 c1 hw2
  have HC : Hid (∀ (v : Value) (k : Nat) (W : World) (ys : List Fld) (m' : Int) (base : Nat), Below w2.heap.size w2 W → w2.heap.size ≤ base → OwnF W base v k ys → Below w.heap.size w ((W.setCell ⟨w.heap.size + 1 + 1, 0, none⟩ (.int .i64 m')).setCell ⟨w.heap.size + 1 + 1, 1, none⟩ v) ∧ Box2 ((W.setCell ⟨w.heap.size + 1 + 1, 0, none⟩ (.int .i64 m')).setCell ⟨w.heap.size + 1 + 1, 1, none⟩ v) (w.heap.size + 1 + 1) 26 (.int .i64 m') v ∧ OwnF ((W.setCell ⟨w.heap.size + 1 + 1, 0, none⟩ (.int .i64 m')).setCell ⟨w.heap.size + 1 + 1, 1, none⟩ v) w.heap.size v k ys) := fun v k W ys m' base hW hbase ho =>
    put_box (HQ.out _ hW).2.2.2.1 (by omega) (HQ.out _ hW).2.1 (by have := HW2.out; omega) ho m'
  cases hok : okT m xs with
  | false =>
    have HAns : Hid (AddAns m xs (x, y) xs) := .inr ⟨hok, rfl⟩
    clear hok
    go_wp2_with fail
    refine (implCopy_any m a len ca xs _ (HQ.out _ HB3.out).2.2.1 (by omega)).mono ?_
    rintro e w5 ⟨v5, rfl, ho5, hb5⟩
    obtain ⟨a5, c5, rfl⟩ := ho5.shape
    have hb5' : Below w2.heap.size w2 w5 := HB3.out.trans (hb5.mono HB3.out.size)
    obtain ⟨g0, g1, g2, g3⟩ := (HQ.out _ hb5').2.1.cells
    have HF : Hid (Below w.heap.size w ((w5.setCell ⟨w.heap.size + 1 + 1, 0, none⟩ (.int .i64 m)).setCell ⟨w.heap.size + 1 + 1, 1, none⟩ (.slice a5 len c5)) ∧ Box2 ((w5.setCell ⟨w.heap.size + 1 + 1, 0, none⟩ (.int .i64 m)).setCell ⟨w.heap.size + 1 + 1, 1, none⟩ (.slice a5 len c5)) (w.heap.size + 1 + 1) 26 (.int .i64 m) (.slice a5 len c5) ∧ OwnF ((w5.setCell ⟨w.heap.size + 1 + 1, 0, none⟩ (.int .i64 m)).setCell ⟨w.heap.size + 1 + 1, 1, none⟩ (.slice a5 len c5)) w.heap.size (.slice a5 len c5) len xs) := HC.out _ _ _ _ m _ hb5' HB3.out.size ho5
    clear ho5 hb5 hb5' d0 d1 d2 d3
    go_wp2_with fail
    obtain ⟨r0, r1⟩ := ret_tab HF.out.2.1
    refine bodyPost_ret (v := .agg #[.int .i64 m, .slice a5 len c5]) (by simp [results, Tryz.f56, go_sem, r0, r1]) rfl ?_
    exact ⟨_, len, xs, rfl, HAns.out, HF.out.2.2, HF.out.1⟩
  | true =>
    obtain ⟨hfew, hz, hm0, hm1, hzm⟩ := okT_few hok
    have HOk : Hid (okT m xs = true) := hok
    clear hok
    have hxi : (x.size : Int) + (y.size : Int) ≤ 1048576 := by omega
    go_wp2_with fail
    refine (implOf4_any x y _ (by omega)).mono ?_
    rintro e w4 ⟨rfl, hb4⟩
    have HB4 : Hid (Below w2.heap.size w2 w4) := HB3.out.trans (hb4.mono HB3.out.size)
    obtain ⟨e0, e1, _, _⟩ := (HQ.out _ HB4.out).1.cells
    clear hb4 d0 d1 d2 d3
    go_wp2_with fail
    refine (ringOf_any a len ca xs _ (HQ.out _ HB4.out).2.2.1 (by omega) (by omega)).mono ?_
    rintro e w5 ⟨b, p, rfl, hbl, hR5, hb5⟩
    have HR5 : Hid (Ring w5 b p xs) := hR5
    have HB5 : Hid (Below w2.heap.size w2 w5) := HB4.out.trans (hb5.mono HB4.out.size)
    have hbl2 : w2.heap.size ≤ b := Nat.le_trans HB4.out.size hbl
    obtain ⟨d0, d1, _, _⟩ := (HQ.out _ HB5.out).1.cells
    clear hR5 hb5 e0 e1 hbl
    go_wp2_with fail
    refine (shrink_any b p xs (m - ((x.size : Int) + (y.size : Int) + 32)) _ HR5.out (by omega)).mono ?_
    rintro e w6 ⟨v6, k, rfl, hL, hR6, hg6⟩
    have HR6 : Hid (Ring w6 b p (xs.take k)) := hR6
    have HB6 : Hid (Below w2.heap.size w2 w6) := HB5.out.grown hg6 HB5.out.size (fun q e => by injection e with e; omega)
    obtain ⟨e0, e1, _, _⟩ := (HQ.out _ HB6.out).1.cells
    obtain ⟨e2, e3, _, _⟩ := (HQ.out _ HB6.out).2.2.2.2.cells
    clear hR6 hg6 d0 d1
    by_cases hle : (x.size : Int) + (y.size : Int) + 32 ≤ m
    · obtain ⟨hfit, hzk⟩ := add_fits hL hle
      have hk128 : 32 * (xs.take k).length ≤ szL (xs.take k) := by unfold szL; omega
      have HAns : Hid (AddAns m xs (x, y) ((x, y) :: xs.take k)) := .inl ⟨HOk.out, k + 1, hfit, by rw [List.take_succ_cons]⟩
      clear hL hfit
      go_wp2_with fail
      refine (push_any b p (xs.take k) x y _ HR6.out (by omega) (by omega) (by omega)).mono ?_
      rintro e w8 ⟨v8, rfl, hR8, hg8⟩
      have HR8 : Hid (Ring w8 b ((p + 127) % 128) ((x, y) :: xs.take k)) := hR8
      have HB8 : Hid (Below w2.heap.size w2 w8) := HB6.out.grown hg8 HB6.out.size (fun q e => by injection e with e; omega)
      have HSz : Hid (∀ f ∈ (x, y) :: xs.take k, f.1.size ≤ maxLen ∧ f.2.size ≤ maxLen) := by
        intro f hf'
        rcases List.mem_cons.1 hf' with rfl | h
        · exact hf
        · exact HX.out.2.1 f (List.mem_of_mem_take h)
      obtain ⟨d0, d1, _, _⟩ := (HQ.out _ HB8.out).1.cells
      clear hR8 hg8 e0 e1 e2 e3
      generalize (x, y) :: xs.take k = fs at *
      generalize (p + 127) % 128 = q at *
      have HRd : Hid (Ring w8.drew b q fs) := HR8.out
      have HBd : Hid (Below w2.heap.size w2 w8.drew) := HB8.out.drew
      have HFs : Hid (∀ f ∈ fs, f.1.size ≤ maxLen ∧ f.2.size ≤ maxLen) := HSz
      go_wp2_with fail
      go_region_with (first
        | (go_at_call 82; refine (list_any b q fs _ HRd.out HFs.out).mono ?_; rintro e w7 ⟨v7, rfl, ho7, hb7⟩; obtain ⟨a7, c7, rfl⟩ := ho7.shape; have hb7' : Below w2.heap.size w2 w7 := HBd.out.trans (hb7.mono HBd.out.size); obtain ⟨g0, g1, g2, g3⟩ := (HQ.out _ hb7').2.1.cells; obtain ⟨t0, t1, _, _⟩ := (HQ.out _ hb7').1.cells))
      all_goals
        have HF : Hid (Below w.heap.size w ((w7.setCell ⟨w.heap.size + 1 + 1, 0, none⟩ (.int .i64 m)).setCell ⟨w.heap.size + 1 + 1, 1, none⟩ (.slice a7 (List.length fs) c7)) ∧ Box2 ((w7.setCell ⟨w.heap.size + 1 + 1, 0, none⟩ (.int .i64 m)).setCell ⟨w.heap.size + 1 + 1, 1, none⟩ (.slice a7 (List.length fs) c7)) (w.heap.size + 1 + 1) 26 (.int .i64 m) (.slice a7 (List.length fs) c7) ∧ OwnF ((w7.setCell ⟨w.heap.size + 1 + 1, 0, none⟩ (.int .i64 m)).setCell ⟨w.heap.size + 1 + 1, 1, none⟩ (.slice a7 (List.length fs) c7)) w.heap.size (.slice a7 (List.length fs) c7) (List.length fs) fs) := HC.out _ _ _ _ m _ hb7' HBd.out.size ho7
        clear ho7 hb7 hb7' t0 t1
        go_wp2_with fail
        obtain ⟨r0, r1⟩ := ret_tab HF.out.2.1
        refine bodyPost_ret (v := .agg #[.int .i64 m, .slice a7 (List.length fs) c7]) (by simp [results, Tryz.f56, go_sem, r0, r1]) rfl ?_
        exact ⟨_, _, _, rfl, HAns.out, HF.out.2.2, HF.out.1⟩
    · have hlt : m < (x.size : Int) + (y.size : Int) + 32 := by omega
      obtain ⟨rfl, hfit⟩ := add_none hL hm0 hlt
      have HAns : Hid (AddAns m xs (x, y) []) := .inl ⟨HOk.out, 0, hfit, rfl⟩
      have HR7 : Hid (Ring w6 b p []) := HR6
      clear hL hfit hle
      have HRd : Hid (Ring w6.drew b p []) := HR7.out
      have HBd : Hid (Below w2.heap.size w2 w6.drew) := HB6.out.drew
      have HFs : Hid (∀ f ∈ ([] : List Fld), f.1.size ≤ maxLen ∧ f.2.size ≤ maxLen) := fun f hf => by cases hf
      go_wp2_with fail
      go_region_with (first
        | (go_at_call 82; refine (list_any b p [] _ HRd.out HFs.out).mono ?_; rintro e w7 ⟨v7, rfl, ho7, hb7⟩; obtain ⟨a7, c7, rfl⟩ := ho7.shape; have hb7' : Below w2.heap.size w2 w7 := HBd.out.trans (hb7.mono HBd.out.size); obtain ⟨g0, g1, g2, g3⟩ := (HQ.out _ hb7').2.1.cells; obtain ⟨t0, t1, _, _⟩ := (HQ.out _ hb7').1.cells))
      all_goals
        have HF : Hid (Below w.heap.size w ((w7.setCell ⟨w.heap.size + 1 + 1, 0, none⟩ (.int .i64 m)).setCell ⟨w.heap.size + 1 + 1, 1, none⟩ (.slice a7 (0) c7)) ∧ Box2 ((w7.setCell ⟨w.heap.size + 1 + 1, 0, none⟩ (.int .i64 m)).setCell ⟨w.heap.size + 1 + 1, 1, none⟩ (.slice a7 (0) c7)) (w.heap.size + 1 + 1) 26 (.int .i64 m) (.slice a7 (0) c7) ∧ OwnF ((w7.setCell ⟨w.heap.size + 1 + 1, 0, none⟩ (.int .i64 m)).setCell ⟨w.heap.size + 1 + 1, 1, none⟩ (.slice a7 (0) c7)) w.heap.size (.slice a7 (0) c7) (0) []) := HC.out _ _ _ _ m _ hb7' HBd.out.size ho7
        clear ho7 hb7 hb7' t0 t1
        go_wp2_with fail
        obtain ⟨r0, r1⟩ := ret_tab HF.out.2.1
        refine bodyPost_ret (v := .agg #[.int .i64 m, .slice a7 (0) c7]) (by simp [results, Tryz.f56, go_sem, r0, r1]) rfl ?_
        exact ⟨_, _, _, rfl, HAns.out, HF.out.2.2, HF.out.1⟩

end Go.Proofs.YtckpacifimpkgacGreat
