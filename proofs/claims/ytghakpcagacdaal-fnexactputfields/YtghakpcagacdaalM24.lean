/- The program's ring of a table's fields. -/
import Derived.Test.YtghakpcagacdaalM20
import Derived.Test.YtghakpcagacdaalM21
import Derived.Test.YtghakpcagacdaalM21
import Derived.Test.YtghakpcagacdaalM23
namespace Go.Proofs.Ytghakpcagacdaal
open Go.RowKit Go.Shelf
set_option linter.unusedVariables false
attribute [local go_sem] Oper.semAt_some

/-- The cells of a new ring. -/
def ring0 : Array Value := Array.replicate 256 (.string ⟨#[]⟩) ++ #[.int .i64 0, .int .i64 0, .int .i64 0]

theorem Try.infoG : (Try.prog.info? 163).map (fun i => (i.zero, i.size)) = some (some (.agg ring0), 259) := by kernel_rfl

theorem ring0_size : ring0.size = 259 := by simp [ring0]
theorem ring0_one : ring0.all (·.oneCell') = true := by kernel_rfl

theorem RingC.new : RingC ring0 0 [] := by
  refine ⟨ring0_size, by omega, Nat.zero_le _, by kernel_rfl, by kernel_rfl, by kernel_rfl, fun k hk => ⟨⟨#[]⟩, ?_⟩, fun i hi => by simp at hi⟩
  rw [ring0, Array.getElem?_append_left (by simp; omega), Array.getElem?_replicate, if_pos hk]

/-- What holds in the loop: the ring has the fields from j on. -/
structure RInv (w : World) (h : Nat) (a : Option Addr) (N cap : Nat) (xs : List Fld) (j : Nat) (W : World) : Prop where
  box : Boxed W (h + 1 + 1) 38 (.slice a N cap)
  ptr : Boxed W (h + 1) 149 (.pointer (some ⟨h, 0, none⟩))
  ring : ∃ p, Ring W h p (xs.drop j)
  bel : Below h w W

theorem RInv.at0 {w : World} {h : Nat} {a : Option Addr} {N cap : Nat} {xs : List Fld} {j : Nat} {W : World} (I : RInv w h a N cap xs j W) (e : j = 0) : RInv w h a N cap xs 0 W := by
  subst e
  exact I

theorem szL_append (xs ys : List Fld) : szL (xs ++ ys) = szL xs + szL ys := by
  simp only [szL, fldBytes, List.map_append, List.sum_append, List.length_append]
  omega

theorem RInv.kept {w : World} {h : Nat} {a : Option Addr} {N cap : Nat} {xs : List Fld} {j : Nat} {W W' : World} {row : Option Nat} (I : RInv w h a N cap xs j W) (hg : W.grownBy W' row) (hr : ∀ r, row = some r → h + 3 ≤ r) (hw : h ≤ w.heap.size) : RInv w h a N cap xs j W' := by
  have ne : ∀ k, k < h + 3 → some k ≠ row := fun k hk e => by have := hr k e.symm; omega
  obtain ⟨p, hR⟩ := I.ring
  exact ⟨I.box.kept hg (ne _ (by omega)), I.ptr.kept hg (ne _ (by omega)), ⟨p, hR.kept hg (ne _ (by omega))⟩, I.bel.grown hg (Nat.le_trans hw I.bel.size) (fun k hk => by have := hr k hk; omega)⟩

set_option maxRecDepth 10000 in
set_option maxHeartbeats 1600000 in
theorem ringOf_any (a : Option Addr) (len ca : Nat) (xs : List Fld) (w : World) (hx : Flds w a len xs) (hl : len ≤ 128) (hs : szL xs ≤ 100000) :
    Calls Try.prog 106 #[.slice a len ca] w fun e w' => ∃ b p, e = .returned (.pointer (some ⟨b, 0, none⟩)) ∧ w.heap.size ≤ b ∧ Ring w' b p xs ∧ Below w.heap.size w w' := by
  have HX : Hid (Flds w a len xs) := hx
  clear hx
  obtain ⟨Z, hZ⟩ : ∃ Z, ring0 = Z := ⟨_, rfl⟩
  have hz : ∀ w, (zeroValue 163).run Try.prog w = .ok (.agg Z) w := by rw [← hZ]; exact (zero_of_info Try.infoG).1
  have HZ : Hid (RingC Z 0 []) := by rw [← hZ]; exact RingC.new
  have hsi : (Try.prog.info? 163).map (·.size) = some Z.size := by rw [HZ.out.size]; exact (zero_of_info Try.infoG).2
  have hso : Z.all (·.oneCell') = true := by rw [← hZ]; exact ring0_one
  clear hZ
  refine (callsIn_wide (n := 4)).1 ?_
  refine callsIn_of_wp_marks Try.func106 rfl trivial ?_ rfl
  simp only [Try.ntmps106, List.size_toArray, List.length_cons, List.length_nil, Nat.reduceAdd, Nat.reduceSub, Array.replicate_succ, Array.replicate_zero, List.push_toArray, List.append_toArray, List.nil_append, List.cons_append]
  refine wpIn_wide.2 ?_
  go_wp2_with fail
  refine (callsIn_wide.1 (backward_any _ _ _ _ 4)).mono ?_
  rintro e w5 ⟨rfl, rfl⟩
  go_wp2_with fail
  obtain ⟨W0, hW0⟩ : ∃ W0, ((w.alloc (Obj.cells Z 163)).alloc (Obj.cells #[Value.pointer (some { block := w.heap.size, off := 0 })] 149)).alloc (Obj.cells #[Value.slice a len ca] 38) = W0 := ⟨_, rfl⟩
  have hs0 : W0.heap.size = w.heap.size + 3 := by rw [← hW0]; simp
  have hxl := HX.out.1
  have HI0 : Hid (RInv w w.heap.size a len ca xs len W0) := by
    refine ⟨?_, ?_, ⟨0, ?_⟩, ?_⟩
    · rw [← hW0]
      have := Boxed.new ((w.alloc (Obj.cells Z 163)).alloc (Obj.cells #[Value.pointer (some { block := w.heap.size, off := 0 })] 149)) 38 (Value.slice a len ca)
      simpa using this
    · rw [← hW0]
      have := (Boxed.new (w.alloc (Obj.cells Z 163)) 149 (Value.pointer (some { block := w.heap.size, off := 0 }))).alloc (Obj.cells #[Value.slice a len ca] 38)
      simpa using this
    · rw [List.drop_of_length_le (by omega)]
      refine ⟨Z, ?_, HZ.out⟩
      rw [← hW0]
      exact kept_alloc (kept_alloc (heap_alloc_new w _) _) _
    · rw [← hW0]
      exact (((Below.refl _ _).alloc (Nat.le_refl _) _).alloc (by simp) _).alloc (by simp; omega) _
  rw [hW0]
  clear hW0 hz hsi hso HZ
  obtain ⟨h, hh⟩ : ∃ h, w.heap.size = h := ⟨_, rfl⟩
  have HH : Hid (w.heap.size = h) := hh
  rw [hh] at HI0 hs0 ⊢
  have hhw : h ≤ w.heap.size := by omega
  have HXB : Hid (∀ W, Below h w W → Flds W a len xs) := fun W hW => HX.out.below (by rw [hh]; exact hW)
  have HO : Hid (∀ (f : Nat → Nat) (P : Nat → Prop), OwnFrom W0.heap.size (fun (k : Nat) W => P k ∧ RInv w h a len ca xs (f k) W)) := fun f P s W W' row hs hg hr =>
    ⟨hs.1, hs.2.kept hg (fun r e => by have := (hr r e).1; omega) hhw⟩
  clear hh
  refine (wpIn_wide (n := 4)).1 ?_
  refine loop_turns_var (n := 4) rfl (by decide) (gf := 118) (lb := #[.pointer (some ⟨h + 1 + 1, 0, none⟩)]) rfl trivial (enters_of Try.func118 (by kernel_rfl) rfl) (encB xs) (fun _ => rfl)
    (fun (k : Nat) W => k < len ∧ RInv w h a len ca xs (k + 1) W)
    (fun (k : Nat) W => k < len ∧ RInv w h a len ca xs k W)
    (fun _ _ _ => False)
    (fun (k : Nat) W => True ∧ RInv w h a len ca xs 0 W)
    (fun W => True ∧ RInv w h a len ca xs len W)
    (back_iter 3 _ (h + 1 + 1) a len ca xs (by decide) (by omega) hxl _ _ _ _ _
      (fun W hI => ⟨hI.2.box, fun h0 => ⟨by omega, by have := hI.2; rwa [show len - 1 + 1 = len by omega]⟩, fun h0 => ⟨trivial, hI.2.at0 h0⟩⟩)
      (fun k W hI => ⟨hI.1, hI.2.box, HXB.out W hI.2.bel⟩)
      (fun k W hI => ⟨fun h0 => ⟨by omega, by have := hI.2; rwa [show k - 1 + 1 = k by omega]⟩, fun h0 => ⟨trivial, hI.2.at0 h0⟩⟩))
    (HO.out (fun k => k + 1) (fun k => k < len)) (HO.out (fun k => k) (fun k => k < len)) (fun c s W W' row hs hg hr => hs)
    (fun s W W' row hs hg hr => (HO.out (fun _ => 0) (fun _ => True)) 0 W W' row hs hg hr) (fun s W W' row hs hg hr => (HO.out (fun _ => len) (fun _ => True)) 0 W W' row hs hg hr)
    ⟨trivial, HI0.out⟩ (fun k => .cells #[.string (xs.getD k (⟨#[]⟩, ⟨#[]⟩)).1, .string (xs.getD k (⟨#[]⟩, ⟨#[]⟩)).2] 44) ?frame ?assign ?body ?done ?stop
  case assign =>
    intro l s W q hq K hK
    gi_wp2
    exact hK
  case body =>
    rintro l k W ⟨hk, I⟩ hWs
    have hkL : k < xs.length := by omega
    obtain ⟨⟨x, y⟩, hxy⟩ : ∃ f, xs[k]? = some f := ⟨_, List.getElem?_eq_getElem hkL⟩
    have hsz : x.size + y.size ≤ 100000 := by
      have h1 := szL_take_step xs k hkL
      have h2 := szL_take_le xs (k + 1)
      have e : xs[k] = (x, y) := by rw [List.getElem?_eq_getElem hkL] at hxy; injection hxy
      rw [e] at h1
      dsimp only at h1
      omega
    have hdrop : (x, y) :: xs.drop (k + 1) = xs.drop k := by
      rw [List.drop_eq_getElem_cons hkL]
      rw [List.getElem?_eq_getElem hkL] at hxy
      injection hxy with e
      rw [e]
    have hdl : (xs.drop (k + 1)).length < 128 := by rw [List.length_drop]; omega
    have hds : szL (xs.drop (k + 1)) ≤ 100000 := by
      have h1 := szL_append (xs.take (k + 1)) (xs.drop (k + 1))
      rw [List.take_append_drop] at h1
      omega
    simp only [List.getD_eq_getElem?_getD, hxy, Option.getD_some]
    clear hxy
    obtain ⟨V, hV⟩ : ∃ V, W.alloc (.cells #[.string x, .string y] 44) = V := ⟨_, rfl⟩
    have IV : RInv w h a len ca xs (k + 1) V := by
      rw [← hV]
      exact I.kept (row := none) (World.grownBy_alloc _ _ _) (fun r e => by cases e) hhw
    have hbx : Box2 V W.heap.size 44 (.string x) (.string y) := by rw [← hV]; exact Box2.new _ _ _ _
    rw [hV]
    clear hV I
    obtain ⟨p, hR⟩ := IV.ring
    have p1 := IV.ptr.cell
    obtain ⟨x0, x1, _, _⟩ := hbx.cells
    gi_wp2_with fail
    refine ⟨trivial, (CallsIn.inRound l (callsIn_wide.2 (push_any h p (xs.drop (k + 1)) x y V hR hdl hds hsz))).mono ?_⟩
    rintro e V1 ⟨v, rfl, hR1, hG1⟩
    rw [hdrop] at hR1
    gi_wp2_with fail
    have ne : ∀ q, q ≠ h → some q ≠ some h := fun q hq e => hq (by injection e)
    refine ⟨⟨hG1.size, fun q o hq ho _ => (hG1.block q (Array.getElem?_eq_some_iff.1 ho).1 (ne _ (by omega))).trans ho⟩, hk, IV.box.kept hG1 (ne _ (by omega)), IV.ptr.kept hG1 (ne _ (by omega)), ⟨_, hR1⟩, IV.bel.grown hG1 (Nat.le_trans hhw IV.bel.size) (fun q e => by injection e with e; omega)⟩
  case done =>
    rintro D s W hD ⟨_, I⟩ hK
    have p1 := I.ptr.cell
    obtain ⟨p, hR⟩ := I.ring
    dsimp only
    go_wp2_with fail
    have I2 : RInv w h a len ca xs 0 (W.putObj D (.deferred none)) := I.kept (grownBy_putObj' W D _) (fun r e => by injection e with e; omega) hhw
    obtain ⟨p2, hR2⟩ := I2.ring
    refine ⟨by simp, .inl ⟨_, _, rfl, run_takeDeferred hK, ?_⟩⟩
    refine ⟨_, results_tmp rfl _ _ _, h, p2, rfl, by have := HH.out; omega, hR2, ?_⟩
    rw [HH.out]
    exact I2.bel
  case stop =>
    rintro D c s W hD h
    exact h.elim

end Go.Proofs.Ytghakpcagacdaal
