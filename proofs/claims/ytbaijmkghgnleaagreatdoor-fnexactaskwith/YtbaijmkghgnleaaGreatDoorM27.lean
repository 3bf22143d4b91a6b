/- What the specification's Part answers: the block's parts, in memory of their own; nothing that was there is written. For blocks of at most 2^20 bytes. -/
import Derived.Test.YtbaijmkghgnleaaGreatDoorM24
import Derived.Test.YtbaijmkghgnleaaGreatDoorM25
import Derived.Test.YtbaijmkghgnleaaGreatDoorM26
import Derived.Test.YtbaijmkghgnleaaGreatDoorM26
import Derived.Test.YtbaijmkghgnleaaGreatDoorM25
import Derived.Deep.CutBlock
namespace Go.Proofs.YtbaijmkghgnleaaGreatDoor
open Go.RowKit
set_option linter.unusedVariables false

set_option maxRecDepth 10000 in
set_option maxHeartbeats 1600000 in
theorem specPart_no (s : Int) (en : Bool) (b off len cap : Nat) (zs : List Int) (most : Int) (w : World) (h : ¬ (1 ≤ s ∧ s ≤ 2147483647)) :
    Calls Tryz.prog 25 #[.int .i64 s, .bool en, .slice (some ⟨b, off, none⟩) len cap, .int .i64 most] w fun e w' => ∃ v l, e = .returned v ∧ FrRow w' w.heap.size v l ∧ l.map FE.data = partL s en zs most ∧ Below w.heap.size w w' := by
  have HP : Hid (partL s en zs most = []) := by show _ = _; rw [partL, if_neg h]
  have HN : Hid (s < 1 ∨ 2147483647 < s) := by show _ ∨ _; omega
  clear h
  go_enter Tryz.func25, Tryz.ntmps25
  go_wp2_with (go_at_call 20; refine (l1In_no s 1 2147483647 _ HN.out).mono ?_; rintro e w' ⟨rfl, rfl⟩)
  go_ret
  exact ⟨_, _, rfl, FrRow.nil w, HP.out.symm, (Below.refl _ _).alloc (Nat.le_refl _) _⟩

set_option maxRecDepth 10000 in
set_option maxHeartbeats 3200000 in
theorem specPart_zero (s : Int) (en : Bool) (b off m : Nat) (most : Int) (w : World) (h1 : 1 ≤ s) (h2 : s ≤ 2147483647) (hm : clampM most = m) :
    Calls Tryz.prog 25 #[.int .i64 s, .bool en, .slice (some ⟨b, off, none⟩) 0 0, .int .i64 most] w fun e w' => ∃ v l, e = .returned v ∧ FrRow w' w.heap.size v l ∧ l.map FE.data = (List.range (pn m 0)).map (prt m s en []) ∧ Below w.heap.size w w' := by
  obtain ⟨i0, hi, hz0, hz1, hz2⟩ := info_parts info_frame
  obtain ⟨i5, hi5, hz50, hz51, hz52⟩ := info_parts Tryz.info5
  have hm1 : 1 ≤ m ∧ m ≤ 1000 := by rw [← hm]; exact clampM_range most
  have HM : Hid ((most < 1 → (1 : Int) = (m : Int)) ∧ (¬ most < 1 → ¬ 1000 < most → most = (m : Int)) ∧ (1000 < most → (1000 : Int) = (m : Int))) := by
    show _ ∧ _ ∧ _
    rw [← hm]
    unfold clampM
    omega
  have HB0 : Hid (Below w.heap.size w (w.alloc (.cells #[] 55))) := (Below.refl _ _).alloc (Nat.le_refl _) _
  have HO0 : Hid (FrRow (w.alloc (.cells #[] 55)) w.heap.size (.slice (some ⟨w.heap.size, 0, none⟩) 0 0) []) := FrRow.nil w
  obtain ⟨G, hG⟩ : ∃ G : Int, (if en = true then (5 : Int) else 4) = G := ⟨_, rfl⟩
  have HR : Hid ((List.range (pn m 0)).map (prt m s en []) = [(1, G, s, [])]) := by
    show _ = _
    have e1 : pn m 0 = 1 := rfl
    rw [e1, ← hG]
    simp [List.range_succ, prt, pf, pn]
  rw [HR.out]
  clear hm HR
  go_enter Tryz.func25, Tryz.ntmps25
  go_upto_if 19 with (go_at_call 20; refine (l1In_yes s 1 2147483647 _ h1 h2).mono ?_; rintro e w' ⟨rfl, rfl⟩)
  go_cut [3] from 13 (fun v3 W => (∃ x : Int, v3 = .int .i64 x ∧ (1000 < x → (1000 : Int) = (m : Int)) ∧ (¬ 1000 < x → x = (m : Int))) ∧ Hid (W = w.alloc (.cells #[] 55)))
  case first =>
    by_cases hlt : most < 1
    · go_wp2_with fail
      go_meet
      exact ⟨⟨1, rfl, by omega, fun _ => HM.out.1 hlt⟩, rfl⟩
    · go_wp2_with fail
      go_meet
      exact ⟨⟨most, rfl, fun h => HM.out.2.2 h, fun h => HM.out.2.1 hlt h⟩, rfl⟩
  case rest =>
  obtain ⟨⟨x, rfl, hx1, hx2⟩, hW⟩ := hcut
  rw [hW.out]
  clear hW HM
  go_upto_if 21 with fail
  go_cut [3] from 13 (fun v3 W => v3 = .int .i64 (m : Int) ∧ Hid (W = w.alloc (.cells #[] 55)))
  case first =>
    by_cases hlt : 1000 < x
    · have e := hx1 hlt
      clear hx1 hx2
      go_wp2_with fail
      go_meet
      exact ⟨by rw [e], rfl⟩
    · have e := hx2 hlt
      subst e
      clear hx1 hx2
      go_wp2_with fail
      go_meet
      exact ⟨rfl, rfl⟩
  case rest =>
  obtain ⟨rfl, hW⟩ := hcut
  rw [hW.out]
  clear hW hx1 hx2 x
  go_wp2_with fail
  refine wp_loop_rounds 2 ?_
  rw [rounds_succ]
  obtain ⟨W0, hW0⟩ : ∃ W0, w.alloc (.cells #[] 55) = W0 := ⟨_, rfl⟩
  rw [hW0] at HB0 HO0 ⊢
  clear hW0
  have hmi : (1 : Int) ≤ (m : Int) := by omega
  have hmi2 : (m : Int) ≤ 1000 := by omega
  have hgo : (0 : Int) ≤ (m : Int) := by omega
  have ho4 : bits BinOp.or IntKind.i64 0 4 = 4 := rfl
  have ho5 : bits BinOp.or IntKind.i64 1 4 = 5 := rfl
  cases en
  · have hbx := Box4.new W0 55 (.int .i64 1) (.int .i64 4) (.int .i64 s) (.slice none 0 0)
    simp at hG
    subst hG
    go_upto_region 20 with fail
    obtain ⟨V, hV⟩ : ∃ V, W0.alloc (.cells #[.int .i64 1, .int .i64 4, .int .i64 s, .slice none 0 0] 55) = V := ⟨_, rfl⟩
    have hVs : V.heap.size = W0.heap.size + 1 := by rw [← hV]; simp
    have hVb : Below W0.heap.size W0 V := by rw [← hV]; exact (Below.refl _ _).alloc (Nat.le_refl _) _
    rw [hV] at hbx ⊢
    clear hV
    have HSz : Hid (V.heap.size = W0.heap.size + 1) := hVs
    have HVb : Hid (Below W0.heap.size W0 V) := hVb
    have HO1 : Hid ((V.alloc (.cells #[] 5)).ownsRow V.heap.size 5 1 (.slice (some ⟨V.heap.size, 0, none⟩) 0 0) 0 []) := World.ownsRow_lit V #[] 0 (Nat.le_refl _) (Nat.zero_le _) rfl
    obtain ⟨fb, hfb⟩ : ∃ fb, W0.heap.size = fb := ⟨_, rfl⟩
    have HFb : Hid (W0.heap.size = fb) := hfb
    rw [hfb] at hbx ⊢
    have HX : Hid (Box4 V fb 55 (.int .i64 1) (.int .i64 4) (.int .i64 s) (.slice none 0 0)) := hbx
    clear hVs hVb hfb hbx
    obtain ⟨c0, c1, c2, c3⟩ := HX.out.cells
    have f3 := HX.out.frozen 3
    go_upto_region 21 with (at_builtin; refine wpList_append_own _ rfl _ _ 27 rfl V.heap.size 5 i5 (.int .u8 0) 1 1 Tryz.underlying27 hi5 hz50 hz51 hz52 rfl (by decide) (.slice (some ⟨V.heap.size, 0, none⟩) 0 0) 0 [] rfl HO1.out ⟨b, off, none⟩ 0 0 [] rfl rfl (by simp) (by simp) (by unfold maxLen; omega) (by omega) (by simp) ?_; intro v3 W3 hown3 hgrow3 _; refine Hid.out ?_)
    refine hidden ?_
    have hB3 : Below V.heap.size V W3 := ((Below.refl _ _).alloc (Nat.le_refl _) _).grown hgrow3 (by simp) (by simp [Value.ownBlock])
    obtain ⟨a3, k3, rfl⟩ := shape_of_owns hown3
    rw [Nat.zero_add] at hown3 ⊢
    have HG3 : Hid (Owns W3 V.heap.size a3 0 k3 []) := ⟨by simpa using hown3, by simp⟩
    have HX3 : Hid (Box4 W3 fb 55 (.int .i64 1) (.int .i64 4) (.int .i64 s) (.slice none 0 0)) := HX.out.stays hB3
    have hfbl : fb < V.heap.size := HX.out.lt
    have HO3 : Hid (FrRow W3 w.heap.size (.slice (some ⟨w.heap.size, 0, none⟩) 0 0) []) := (HO0.out.stays HVb.out).stays hB3
    have HB3 : Hid (Below w.heap.size w W3) := by
      have h1 := HB0.out.trans (HVb.out.mono HB0.out.size)
      exact h1.trans (hB3.mono h1.size)
    have hws : w.heap.size < fb := by have h1 := (HO0.out.1.lt w.heap.size rfl).2; have h2 := HFb.out; omega
    have HZ3 : Hid (fb < V.heap.size ∧ V.heap.size ≤ W3.heap.size) := ⟨hfbl, hB3.size⟩
    clear hB3 hown3 hgrow3 HX HO1 c0 c1 c2 c3 f3 hfbl
    obtain ⟨c0, c1, c2, c3⟩ := HX3.out.cells
    have f3 := HX3.out.frozen 3
    go_upto_region 21 with fail
    obtain ⟨W4, hW4⟩ : ∃ W4, W3.setCell ⟨fb, 3, none⟩ (.slice a3 0 k3) = W4 := ⟨_, rfl⟩
    have HG4 : Hid (Owns W4 V.heap.size a3 0 k3 []) := by
      show Owns _ _ _ _ _ _
      rw [← hW4]
      exact owns_set HG3.out (fun e => by have h1 := (HG3.out.lt fb e).1; have h2 := HZ3.out.1; omega)
    have HX4 : Hid (Box4 W4 fb 55 (.int .i64 1) (.int .i64 4) (.int .i64 s) (.slice a3 0 k3)) := by
      show Box4 _ _ _ _ _ _ _
      rw [← hW4]
      exact box4_set3 HX3.out _
    have HB4 : Hid (Below w.heap.size w W4) := by
      show Below _ _ _
      rw [← hW4]
      exact HB3.out.setCell (p := ⟨fb, 3, none⟩) (by show w.heap.size ≤ fb; omega) _
    have HO4 : Hid (FrRow W4 w.heap.size (.slice (some ⟨w.heap.size, 0, none⟩) 0 0) []) := by
      show FrRow _ _ _ _
      rw [← hW4]
      exact HO3.out.grown (grownBy_set W3 fb 3 _) (fun q e e2 => by injection e with e; have e3 : some w.heap.size = some q := e2; injection e3 with e3; omega) (fun x hx => by cases hx)
    have HZ4 : Hid (fb < V.heap.size ∧ V.heap.size ≤ W4.heap.size) := ⟨HZ3.out.1, by rw [← hW4]; have := HZ3.out.2; simpa using this⟩
    rw [hW4]
    clear hW4 HG3 HX3 HB3 HO3 HZ3 c0 c1 c2 c3 f3
    obtain ⟨c0, c1, c2, c3⟩ := HX4.out.cells
    have HN4 : Hid (∀ i u, (FE.cells ⟨1, 4, s, a3, 0, k3, []⟩)[i]? = some u → (W4.alloc (.cells #[.int .i64 1, .int .i64 4, .int .i64 s, .slice a3 0 k3] 55)).cell? ((⟨W4.heap.size, 0, none⟩ : Addr).add i) = some u) := four_new W4 1 4 s a3 0 k3 []
    have HO4' : Hid ((W4.alloc (.cells #[.int .i64 1, .int .i64 4, .int .i64 s, .slice a3 0 k3] 55)).ownsRow w.heap.size 55 4 (.slice (some ⟨w.heap.size, 0, none⟩) 0 0) 0 (feCells [])) := HO4.out.1.alloc _
    have e1 : ((m : Int) == 0) = false := by simp; omega
    have e2 : decide ((m : Int) < 0) = false := by simp
    go_wp2_with (at_builtin; refine wpList_append_own _ rfl _ _ 52 rfl w.heap.size 55 i0 (.agg #[.int .i64 0, .int .i64 0, .int .i64 0, .slice none 0 0]) 4 48 Tryz.underlying52 hi hz0 hz1 hz2 rfl (by decide) (.slice (some ⟨w.heap.size, 0, none⟩) 0 0) 0 _ rfl HO4'.out ⟨W4.heap.size, 0, none⟩ 1 1 (FE.cells ⟨1, 4, s, a3, 0, k3, []⟩) rfl rfl HN4.out (four_one 1 4 s a3 0 k3 []) (by unfold maxLen; omega) (by omega) (by have := HB4.out.size; simp; omega) ?_; intro v5 W5 hown5 hgrow5 _; refine Hid.out ?_)
    refine hidden ?_
    have HO5 : Hid (FrRow W5 w.heap.size v5 ([] ++ [⟨1, 4, s, a3, 0, k3, []⟩])) := HO4.out.snoc HG4.out (by have := HZ4.out.1; omega) (fun x hx => by cases hx) hown5 hgrow5
    have HB5 : Hid (Below w.heap.size w W5) := (HB4.out.alloc HB4.out.size _).grown hgrow5 (by have := HB4.out.size; simp; omega) (fun q hq => (HO4'.out.lt q hq).1)
    clear hown5 hgrow5 HN4 HO4' HO4 HG4 HX4 HB4 c0 c1 c2 c3
    go_wp2
    rw [rounds_succ]
    go_wp2
    go_ret
    exact ⟨_, _, rfl, HO5.out, rfl, HB5.out⟩
  · have hbx := Box4.new W0 55 (.int .i64 1) (.int .i64 5) (.int .i64 s) (.slice none 0 0)
    simp at hG
    subst hG
    go_upto_region 20 with fail
    obtain ⟨V, hV⟩ : ∃ V, W0.alloc (.cells #[.int .i64 1, .int .i64 5, .int .i64 s, .slice none 0 0] 55) = V := ⟨_, rfl⟩
    have hVs : V.heap.size = W0.heap.size + 1 := by rw [← hV]; simp
    have hVb : Below W0.heap.size W0 V := by rw [← hV]; exact (Below.refl _ _).alloc (Nat.le_refl _) _
    rw [hV] at hbx ⊢
    clear hV
    have HSz : Hid (V.heap.size = W0.heap.size + 1) := hVs
    have HVb : Hid (Below W0.heap.size W0 V) := hVb
    have HO1 : Hid ((V.alloc (.cells #[] 5)).ownsRow V.heap.size 5 1 (.slice (some ⟨V.heap.size, 0, none⟩) 0 0) 0 []) := World.ownsRow_lit V #[] 0 (Nat.le_refl _) (Nat.zero_le _) rfl
    obtain ⟨fb, hfb⟩ : ∃ fb, W0.heap.size = fb := ⟨_, rfl⟩
    have HFb : Hid (W0.heap.size = fb) := hfb
    rw [hfb] at hbx ⊢
    have HX : Hid (Box4 V fb 55 (.int .i64 1) (.int .i64 5) (.int .i64 s) (.slice none 0 0)) := hbx
    clear hVs hVb hfb hbx
    obtain ⟨c0, c1, c2, c3⟩ := HX.out.cells
    have f3 := HX.out.frozen 3
    go_upto_region 21 with (at_builtin; refine wpList_append_own _ rfl _ _ 27 rfl V.heap.size 5 i5 (.int .u8 0) 1 1 Tryz.underlying27 hi5 hz50 hz51 hz52 rfl (by decide) (.slice (some ⟨V.heap.size, 0, none⟩) 0 0) 0 [] rfl HO1.out ⟨b, off, none⟩ 0 0 [] rfl rfl (by simp) (by simp) (by unfold maxLen; omega) (by omega) (by simp) ?_; intro v3 W3 hown3 hgrow3 _; refine Hid.out ?_)
    refine hidden ?_
    have hB3 : Below V.heap.size V W3 := ((Below.refl _ _).alloc (Nat.le_refl _) _).grown hgrow3 (by simp) (by simp [Value.ownBlock])
    obtain ⟨a3, k3, rfl⟩ := shape_of_owns hown3
    rw [Nat.zero_add] at hown3 ⊢
    have HG3 : Hid (Owns W3 V.heap.size a3 0 k3 []) := ⟨by simpa using hown3, by simp⟩
    have HX3 : Hid (Box4 W3 fb 55 (.int .i64 1) (.int .i64 5) (.int .i64 s) (.slice none 0 0)) := HX.out.stays hB3
    have hfbl : fb < V.heap.size := HX.out.lt
    have HO3 : Hid (FrRow W3 w.heap.size (.slice (some ⟨w.heap.size, 0, none⟩) 0 0) []) := (HO0.out.stays HVb.out).stays hB3
    have HB3 : Hid (Below w.heap.size w W3) := by
      have h1 := HB0.out.trans (HVb.out.mono HB0.out.size)
      exact h1.trans (hB3.mono h1.size)
    have hws : w.heap.size < fb := by have h1 := (HO0.out.1.lt w.heap.size rfl).2; have h2 := HFb.out; omega
    have HZ3 : Hid (fb < V.heap.size ∧ V.heap.size ≤ W3.heap.size) := ⟨hfbl, hB3.size⟩
    clear hB3 hown3 hgrow3 HX HO1 c0 c1 c2 c3 f3 hfbl
    obtain ⟨c0, c1, c2, c3⟩ := HX3.out.cells
    have f3 := HX3.out.frozen 3
    go_upto_region 21 with fail
    obtain ⟨W4, hW4⟩ : ∃ W4, W3.setCell ⟨fb, 3, none⟩ (.slice a3 0 k3) = W4 := ⟨_, rfl⟩
    have HG4 : Hid (Owns W4 V.heap.size a3 0 k3 []) := by
      show Owns _ _ _ _ _ _
      rw [← hW4]
      exact owns_set HG3.out (fun e => by have h1 := (HG3.out.lt fb e).1; have h2 := HZ3.out.1; omega)
    have HX4 : Hid (Box4 W4 fb 55 (.int .i64 1) (.int .i64 5) (.int .i64 s) (.slice a3 0 k3)) := by
      show Box4 _ _ _ _ _ _ _
      rw [← hW4]
      exact box4_set3 HX3.out _
    have HB4 : Hid (Below w.heap.size w W4) := by
      show Below _ _ _
      rw [← hW4]
      exact HB3.out.setCell (p := ⟨fb, 3, none⟩) (by show w.heap.size ≤ fb; omega) _
    have HO4 : Hid (FrRow W4 w.heap.size (.slice (some ⟨w.heap.size, 0, none⟩) 0 0) []) := by
      show FrRow _ _ _ _
      rw [← hW4]
      exact HO3.out.grown (grownBy_set W3 fb 3 _) (fun q e e2 => by injection e with e; have e3 : some w.heap.size = some q := e2; injection e3 with e3; omega) (fun x hx => by cases hx)
    have HZ4 : Hid (fb < V.heap.size ∧ V.heap.size ≤ W4.heap.size) := ⟨HZ3.out.1, by rw [← hW4]; have := HZ3.out.2; simpa using this⟩
    rw [hW4]
    clear hW4 HG3 HX3 HB3 HO3 HZ3 c0 c1 c2 c3 f3
    obtain ⟨c0, c1, c2, c3⟩ := HX4.out.cells
    have HN4 : Hid (∀ i u, (FE.cells ⟨1, 5, s, a3, 0, k3, []⟩)[i]? = some u → (W4.alloc (.cells #[.int .i64 1, .int .i64 5, .int .i64 s, .slice a3 0 k3] 55)).cell? ((⟨W4.heap.size, 0, none⟩ : Addr).add i) = some u) := four_new W4 1 5 s a3 0 k3 []
    have HO4' : Hid ((W4.alloc (.cells #[.int .i64 1, .int .i64 5, .int .i64 s, .slice a3 0 k3] 55)).ownsRow w.heap.size 55 4 (.slice (some ⟨w.heap.size, 0, none⟩) 0 0) 0 (feCells [])) := HO4.out.1.alloc _
    have e1 : ((m : Int) == 0) = false := by simp; omega
    have e2 : decide ((m : Int) < 0) = false := by simp
    go_wp2_with (at_builtin; refine wpList_append_own _ rfl _ _ 52 rfl w.heap.size 55 i0 (.agg #[.int .i64 0, .int .i64 0, .int .i64 0, .slice none 0 0]) 4 48 Tryz.underlying52 hi hz0 hz1 hz2 rfl (by decide) (.slice (some ⟨w.heap.size, 0, none⟩) 0 0) 0 _ rfl HO4'.out ⟨W4.heap.size, 0, none⟩ 1 1 (FE.cells ⟨1, 5, s, a3, 0, k3, []⟩) rfl rfl HN4.out (four_one 1 5 s a3 0 k3 []) (by unfold maxLen; omega) (by omega) (by have := HB4.out.size; simp; omega) ?_; intro v5 W5 hown5 hgrow5 _; refine Hid.out ?_)
    refine hidden ?_
    have HO5 : Hid (FrRow W5 w.heap.size v5 ([] ++ [⟨1, 5, s, a3, 0, k3, []⟩])) := HO4.out.snoc HG4.out (by have := HZ4.out.1; omega) (fun x hx => by cases hx) hown5 hgrow5
    have HB5 : Hid (Below w.heap.size w W5) := (HB4.out.alloc HB4.out.size _).grown hgrow5 (by have := HB4.out.size; simp; omega) (fun q hq => (HO4'.out.lt q hq).1)
    clear hown5 hgrow5 HN4 HO4' HO4 HG4 HX4 HB4 c0 c1 c2 c3
    go_wp2
    rw [rounds_succ]
    go_wp2
    go_ret
    exact ⟨_, _, rfl, HO5.out, rfl, HB5.out⟩

set_option maxRecDepth 10000 in
set_option maxHeartbeats 3200000 in
theorem specPart_yes (s : Int) (en : Bool) (b off len cap m : Nat) (zs : List Int) (most : Int) (w : World) (hs : Seg w (some ⟨b, off, none⟩) len zs) (hcap : len ≤ cap) (hc0 : 1 ≤ cap) (hl : len ≤ 1048576) (h1 : 1 ≤ s) (h2 : s ≤ 2147483647) (hm : clampM most = m) :
    Calls Tryz.prog 25 #[.int .i64 s, .bool en, .slice (some ⟨b, off, none⟩) len cap, .int .i64 most] w fun e w' => ∃ v l, e = .returned v ∧ FrRow w' w.heap.size v l ∧ l.map FE.data = (List.range (pn m len)).map (prt m s en zs) ∧ Below w.heap.size w w' := by
  obtain ⟨i0, hi, hz0, hz1, hz2⟩ := info_parts info_frame
  obtain ⟨i5, hi5, hz50, hz51, hz52⟩ := info_parts Tryz.info5
  have HS : Hid (Seg w (some ⟨b, off, none⟩) len zs) := hs
  have hzl : zs.length = len := hs.1
  have hm1 : 1 ≤ m ∧ m ≤ 1000 := by rw [← hm]; exact clampM_range most
  have HM : Hid ((most < 1 → (1 : Int) = (m : Int)) ∧ (¬ most < 1 → ¬ 1000 < most → most = (m : Int)) ∧ (1000 < most → (1000 : Int) = (m : Int))) := by
    show _ ∧ _ ∧ _
    rw [← hm]
    unfold clampM
    omega
  obtain ⟨n, hn⟩ : ∃ n, pn m len = n := ⟨_, rfl⟩
  have HN : Hid (∀ j, (j < n ↔ j = 0 ∨ j * m < len) ∧ (j < n → (j + 1 = n ↔ len ≤ (j + 1) * m))) := fun j => by rw [← hn]; exact ⟨pn_lt hm1.1, pn_last hm1.1⟩
  have HPr : Hid (∀ j, prt m s en zs j = (if j = 0 then 1 else 9, pf en j n, s, (zs.drop (j * m)).take m)) := fun j => by rw [prt, hzl, hn]
  have hnl : n ≤ len + 1 := by rw [← hn]; exact pn_le m len hm1.1
  have HB0 : Hid (Below w.heap.size w (w.alloc (.cells #[] 55))) := (Below.refl _ _).alloc (Nat.le_refl _) _
  have HO0 : Hid (FrRow (w.alloc (.cells #[] 55)) w.heap.size (.slice (some ⟨w.heap.size, 0, none⟩) 0 0) []) := FrRow.nil w
  rw [hn]
  clear hs hm hn
  go_enter Tryz.func25, Tryz.ntmps25
  go_upto_if 19 with (go_at_call 20; refine (l1In_yes s 1 2147483647 _ h1 h2).mono ?_; rintro e w' ⟨rfl, rfl⟩)
  go_cut [3] from 13 (fun v3 W => (∃ x : Int, v3 = .int .i64 x ∧ (1000 < x → (1000 : Int) = (m : Int)) ∧ (¬ 1000 < x → x = (m : Int))) ∧ Hid (W = w.alloc (.cells #[] 55)))
  case first =>
    by_cases hlt : most < 1
    · go_wp2_with fail
      go_meet
      exact ⟨⟨1, rfl, by omega, fun _ => HM.out.1 hlt⟩, rfl⟩
    · go_wp2_with fail
      go_meet
      exact ⟨⟨most, rfl, fun h => HM.out.2.2 h, fun h => HM.out.2.1 hlt h⟩, rfl⟩
  case rest =>
  obtain ⟨⟨x, rfl, hx1, hx2⟩, hW⟩ := hcut
  rw [hW.out]
  clear hW HM
  go_upto_if 21 with fail
  go_cut [3] from 13 (fun v3 W => v3 = .int .i64 (m : Int) ∧ Hid (W = w.alloc (.cells #[] 55)))
  case first =>
    by_cases hlt : 1000 < x
    · have e := hx1 hlt
      clear hx1 hx2
      go_wp2_with fail
      go_meet
      exact ⟨by rw [e], rfl⟩
    · have e := hx2 hlt
      subst e
      clear hx1 hx2
      go_wp2_with fail
      go_meet
      exact ⟨rfl, rfl⟩
  case rest =>
  obtain ⟨rfl, hW⟩ := hcut
  rw [hW.out]
  clear hW hx1 hx2 x
  go_wp2_with fail
  go_loopw [9, 10] (fun v i wr => ∃ (j F : Nat) (l : List FE), j ≤ n ∧ i = .int .i64 (F : Int) ∧ l.length = j ∧ F ≤ len + 1000 ∧ Hid (F = j * m) ∧ Hid (FrRow wr w.heap.size v l) ∧ Hid (l.map FE.data = (List.range j).map (prt m s en zs)) ∧ Hid (Below w.heap.size w wr)) (fun _ i _ => len + 1000 - (intOf i).toNat)
  case atStart => exact ⟨0, 0, [], Nat.zero_le _, rfl, rfl, by omega, by show _ = _; omega, HO0, rfl, HB0⟩
  case round =>
    clear HO0 HB0
    obtain ⟨j, F, l, hj, rfl, hll, hFb, HF, HO, HL, HB⟩ := hrel
    obtain ⟨va, vc, hv⟩ := HO.out.shape
    subst hv
    rw [hll]
    have hFi : (F : Int) ≤ 1049576 := by omega
    by_cases hjn : j < n
    · have hlast := (HN.out j).2 hjn
      have hj0 := (HN.out j).1.1 hjn
      have hF0 : j = 0 → F = 0 := fun h => by rw [HF.out, h, Nat.zero_mul]
      have hF1 : ¬ j = 0 → 1 ≤ F ∧ F < len := fun h => by
        have h3 : 1 * 1 ≤ j * m := Nat.mul_le_mul (by omega) hm1.1
        rw [HF.out]
        omega
      have hFm : (j + 1) * m = F + m := by rw [HF.out, Nat.add_mul, Nat.one_mul]
      rw [hFm] at hlast
      have HFm : Hid ((j + 1) * m = F + m) := hFm
      have hFlen : F ≤ len := by
        by_cases h : j = 0
        · have := hF0 h; omega
        · have := hF1 h; omega
      have hm1' := hm1
      clear hj0 hFm
      go_upto_region 9 with fail
      go_cut [29] from 22 to 63 (fun v29 W => v29 = .bool true ∧ Hid (W = wr))
      case first =>
        by_cases h0 : j = 0
        · have hz := hF0 h0
          have e1 : ((F : Int) == 0) = true := by simp [hz]
          clear hz h0
          go_wp2_with fail
          go_meet
          exact ⟨rfl, rfl⟩
        · obtain ⟨hp, hq⟩ := hF1 h0
          have e1 : ((F : Int) == 0) = false := by simp; omega
          have e2 : decide ((F : Int) < (len : Int)) = true := by simp; omega
          have e3 : ((F : Int) < (len : Int)) = True := by simp; omega
          go_wp2_with fail
          go_meet
          exact ⟨rfl, rfl⟩
      case rest =>
      obtain ⟨rfl, hW⟩ := hcut
      rw [hW.out]
      clear hW
      obtain ⟨K, hK⟩ : ∃ K : Int, (if j = 0 then (1 : Int) else 9) = K := ⟨_, rfl⟩
      obtain ⟨G0, hG0⟩ : ∃ G0 : Int, (if j = 0 ∧ en = true then (1 : Int) else 0) = G0 := ⟨_, rfl⟩
      obtain ⟨G, hG⟩ : ∃ G : Int, pf en j n = G := ⟨_, rfl⟩
      have HPj : Hid (prt m s en zs j = (K, G, s, (zs.drop F).take m)) := by show _ = _; rw [HPr.out, hK, hG, HF.out]
      go_upto_if 36 with fail
      go_cut [11] from 22 to 63 (fun v11 W => v11 = .pointer (some ⟨wr.heap.size, 0, none⟩) ∧ Hid (Box4 W wr.heap.size 55 (.int .i64 K) (.int .i64 G0) (.int .i64 s) (.slice none 0 0) ∧ Below wr.heap.size wr W))
      case first =>
        by_cases h0 : j = 0
        · have hz := hF0 h0
          have e1 : ((F : Int) == 0) = true := by simp [hz]
          have hK2 : K = 1 := by rw [← hK, if_pos h0]
          cases en
          · have hG2 : G0 = 0 := by rw [← hG0]; simp
            subst hK2 hG2
            clear hz h0
            go_wp2_with fail
            go_meet
            exact ⟨rfl, Box4.new _ _ _ _ _ _, (Below.refl _ _).alloc (Nat.le_refl _) _⟩
          · have hG2 : G0 = 1 := by rw [← hG0]; simp [h0]
            subst hK2 hG2
            clear hz h0
            go_wp2_with fail
            go_meet
            exact ⟨rfl, Box4.new _ _ _ _ _ _, (Below.refl _ _).alloc (Nat.le_refl _) _⟩
        · obtain ⟨hp, hq⟩ := hF1 h0
          have e1 : ((F : Int) == 0) = false := by simp; omega
          have hK2 : K = 9 := by rw [← hK, if_neg h0]
          have hG2 : G0 = 0 := by rw [← hG0]; simp [h0]
          subst hK2 hG2
          go_wp2_with fail
          go_meet
          exact ⟨rfl, Box4.new _ _ _ _ _ _, (Below.refl _ _).alloc (Nat.le_refl _) _⟩
      case rest =>
      obtain ⟨rfl, HX⟩ := hcut
      obtain ⟨W1, hW1⟩ : ∃ W1, wc = W1 := ⟨_, rfl⟩
      rw [hW1] at HX ⊢
      clear hW1
      obtain ⟨c0, c1, c2, c3⟩ := HX.out.1.cells
      have f1 := HX.out.1.frozen 1
      go_upto_if 46 with fail
      obtain ⟨E, hE⟩ : ∃ E : Nat, (if len ≤ F + m then len else F + m) = E := ⟨_, rfl⟩
      have HE : Hid (E = F + m ∨ (E = len ∧ len ≤ F + m)) := by show _ ∨ _; rw [← hE]; split <;> omega
      have hE1 : F ≤ E ∧ E ≤ len ∧ E ≤ F + m := by rw [← hE]; split <;> omega
      go_cut [12] from 22 to 63 (fun v12 W => v12 = .int .i64 (E : Int) ∧ Hid (Box4 W wr.heap.size 55 (.int .i64 K) (.int .i64 G) (.int .i64 s) (.slice none 0 0) ∧ Below wr.heap.size wr W))
      case first =>
        by_cases hle : len ≤ F + m
        · have e1 : j + 1 = n := hlast.2 hle
          rw [if_pos hle] at hE
          subst hE
          have hi1 : (len : Int) ≤ (F : Int) + (m : Int) := by omega
          have hor : bits .or .i64 G0 4 = G := by
            rw [← hG, ← hG0, pf, if_pos e1]
            split <;> rfl
          go_wp2_with fail
          go_meet
          exact ⟨rfl, box4_set1 HX.out.1 _, HX.out.2.setCell (Nat.le_refl _) _⟩
        · have e1 : ¬ j + 1 = n := fun h => hle (hlast.1 h)
          rw [if_neg hle] at hE
          have hi1 : ¬ (len : Int) ≤ (F : Int) + (m : Int) := by omega
          have e2 : (F : Int) + (m : Int) = (E : Int) := by omega
          have hGG : G = G0 := by rw [← hG, ← hG0, pf, if_neg e1]
          subst hGG
          go_wp2_with fail
          go_meet
          exact ⟨rfl, HX⟩
      case rest =>
      clear c0 c1 c2 c3 f1 HX
      obtain ⟨rfl, HX⟩ := hcut
      obtain ⟨W2, hW2⟩ : ∃ W2, wc = W2 := ⟨_, rfl⟩
      rw [hW2] at HX ⊢
      clear hW2 hE hK hG0 hG
      obtain ⟨fb, hfb⟩ : ∃ fb, wr.heap.size = fb := ⟨_, rfl⟩
      have HSz : Hid (wr.heap.size = fb ∧ W2.heap.size > fb) := ⟨hfb, by have := HX.out.1.lt; omega⟩
      rw [hfb] at HX ⊢
      obtain ⟨c0, c1, c2, c3⟩ := HX.out.1.cells
      have f3 := HX.out.1.frozen 3
      have HB2 : Hid (Below w.heap.size w W2) := HB.out.trans (HX.out.2.mono (by rw [← hfb]; exact HB.out.size))
      have HS2 : Hid (Seg (W2.alloc (.cells #[] 5)) (some ⟨b, off, none⟩) len zs) := HS.out.below (HB2.out.alloc HB2.out.size _)
      have HO1 : Hid ((W2.alloc (.cells #[] 5)).ownsRow W2.heap.size 5 1 (.slice (some ⟨W2.heap.size, 0, none⟩) 0 0) 0 []) := World.ownsRow_lit W2 #[] 0 (Nat.le_refl _) (Nat.zero_le _) rfl
      have HSG : Hid (∀ o : Nat, o = off + F ∨ E - F = 0 → Seg (W2.alloc (.cells #[] 5)) (some ⟨b, o, none⟩) (E - F) ((zs.drop F).take (E - F))) := fun o ho => seg_cut HS2.out F (E - F) o (by omega) ho
      have HTl : Hid (((zs.drop F).take (E - F)).length = E - F) := (HSG.out _ (.inl rfl)).1
      have HTp : Hid ((zs.drop F).take (E - F) = (zs.drop F).take m) := take_part zs F E m (by rw [hzl]; exact HE.out)
      generalize (zs.drop F).take (E - F) = ys at *
      have hEF : (F : Int) ≤ (E : Int) := by omega
      have hEc : (E : Int) ≤ (cap : Int) := by omega
      have hys : E - F ≤ 1000 := by omega
      have hcF : ¬ cap = F := by
        by_cases h : j = 0
        · have := hF0 h; omega
        · have := hF1 h; omega
      clear hfb
      go_upto_region 21 with (at_builtin; refine wpList_append_own _ rfl _ _ 27 rfl W2.heap.size 5 i5 (.int .u8 0) 1 1 Tryz.underlying27 hi5 hz50 hz51 hz52 rfl (by decide) (.slice (some ⟨W2.heap.size, 0, none⟩) 0 0) 0 [] rfl HO1.out ⟨b, off + F, none⟩ (E - F) _ (ys.map (Value.int .u8)) rfl (by simp [HTl.out]) (cells_ints (HSG.out _ (.inl rfl))) (ints_one _) (by unfold maxLen; omega) (by omega) (by simp) ?_; intro v3 W3 hown3 hgrow3 _; refine Hid.out ?_)
      all_goals
        refine hidden ?_
        have hB3 : Below W2.heap.size W2 W3 := ((Below.refl _ _).alloc (Nat.le_refl _) _).grown hgrow3 (by simp) (by simp [Value.ownBlock])
        obtain ⟨a3, k3, rfl⟩ := shape_of_owns hown3
        rw [Nat.zero_add] at hown3 ⊢
        have hlt := HO.out.lts
        have HL9 : Hid ((∀ q, (Value.slice va l.length vc).ownBlock = some q → q < fb) ∧ ∀ e ∈ l, ∀ q, e.a.map (·.block) = some q → q < fb) := by
          have e1 := HSz.out.1
          exact ⟨fun q hq => by have := (hlt.1 q hq).2; omega, fun e he q hq => by have := (hlt.2 e he q hq).2; omega⟩
        have HG3 : Hid (Owns W3 W2.heap.size a3 (E - F) k3 ys) := ⟨by simpa using hown3, (HSG.out _ (.inl rfl)).2.1⟩
        have HX3 : Hid (Box4 W3 fb 55 (.int .i64 K) (.int .i64 G) (.int .i64 s) (.slice none 0 0)) := HX.out.1.stays hB3
        have HO3 : Hid (FrRow W3 w.heap.size (.slice va l.length vc) l) := (HO.out.stays (by rw [HSz.out.1]; exact HX.out.2)).stays hB3
        have HB3 : Hid (Below w.heap.size w W3) := HB2.out.trans (hB3.mono HB2.out.size)
        have HZ3 : Hid (fb < W2.heap.size ∧ W2.heap.size ≤ W3.heap.size) := ⟨HSz.out.2, hB3.size⟩
        clear hB3 hown3 hgrow3 hlt HX HO HB2 HS2 HO1 HSG c0 c1 c2 c3 f3
        obtain ⟨c0, c1, c2, c3⟩ := HX3.out.cells
        have f3 := HX3.out.frozen 3
        go_upto_region 21 with fail
        obtain ⟨W4, hW4⟩ : ∃ W4, W3.setCell ⟨fb, 3, none⟩ (.slice a3 (E - F) k3) = W4 := ⟨_, rfl⟩
        have HG4 : Hid (Owns W4 W2.heap.size a3 (E - F) k3 ys) := by
          show Owns _ _ _ _ _ _
          rw [← hW4]
          exact owns_set HG3.out (fun e => by have h1 := (HG3.out.lt fb e).1; have h2 := HZ3.out.1; omega)
        have HX4 : Hid (Box4 W4 fb 55 (.int .i64 K) (.int .i64 G) (.int .i64 s) (.slice a3 (E - F) k3)) := by
          show Box4 _ _ _ _ _ _ _
          rw [← hW4]
          exact box4_set3 HX3.out _
        have hws : w.heap.size ≤ fb := by have h1 := HSz.out.1; have h2 := HB.out.size; omega
        have HB4 : Hid (Below w.heap.size w W4) := by
          show Below _ _ _
          rw [← hW4]
          exact HB3.out.setCell (p := ⟨fb, 3, none⟩) hws _
        have HO4 : Hid (FrRow W4 w.heap.size (.slice va l.length vc) l) := by
          show FrRow _ _ _ _
          rw [← hW4]
          exact HO3.out.grown (grownBy_set W3 fb 3 _) (fun q e e2 => by injection e with e; have := HL9.out.1 q e2; omega) (fun x hx q e e2 => by injection e with e; have := HL9.out.2 x hx q e2; omega)
        have HZ4 : Hid (fb < W2.heap.size ∧ W2.heap.size ≤ W4.heap.size) := ⟨HZ3.out.1, by rw [← hW4]; have := HZ3.out.2; simpa using this⟩
        rw [hW4]
        clear hW4 HG3 HX3 HB3 HO3 HZ3 c0 c1 c2 c3 f3
        obtain ⟨c0, c1, c2, c3⟩ := HX4.out.cells
        have HN4 : Hid (∀ i u, (FE.cells ⟨K, G, s, a3, E - F, k3, ys⟩)[i]? = some u → (W4.alloc (.cells #[.int .i64 K, .int .i64 G, .int .i64 s, .slice a3 (E - F) k3] 55)).cell? ((⟨W4.heap.size, 0, none⟩ : Addr).add i) = some u) := four_new W4 K G s a3 (E - F) k3 ys
        have HO4' : Hid ((W4.alloc (.cells #[.int .i64 K, .int .i64 G, .int .i64 s, .slice a3 (E - F) k3] 55)).ownsRow w.heap.size 55 4 (.slice va j vc) j (feCells l)) := by have := HO4.out.1.alloc (.cells #[.int .i64 K, .int .i64 G, .int .i64 s, .slice a3 (E - F) k3] 55); rw [hll] at this; exact this
        go_wp2_with (at_builtin; refine wpList_append_own _ rfl _ _ 52 rfl w.heap.size 55 i0 (.agg #[.int .i64 0, .int .i64 0, .int .i64 0, .slice none 0 0]) 4 48 Tryz.underlying52 hi hz0 hz1 hz2 rfl (by decide) (.slice va j vc) j _ rfl HO4'.out ⟨W4.heap.size, 0, none⟩ 1 1 (FE.cells ⟨K, G, s, a3, E - F, k3, ys⟩) rfl rfl HN4.out (four_one K G s a3 (E - F) k3 ys) (by unfold maxLen; omega) (by omega) (by have := HB4.out.size; simp; omega) ?_; intro v5 W5 hown5 hgrow5 _; refine Hid.out ?_)
        refine hidden ?_
        have HO5 : Hid (FrRow W5 w.heap.size v5 (l ++ [⟨K, G, s, a3, E - F, k3, ys⟩])) := by
          have hg := HO4.out
          rw [hll] at hg
          exact hg.snoc HG4.out (by have := HZ4.out.1; omega) (fun x hx q hq => by have h1 := HL9.out.2 x hx q hq; have h2 := HZ4.out.1; omega) (by rw [hll]; exact hown5) hgrow5
        have HB5 : Hid (Below w.heap.size w W5) := (HB4.out.alloc HB4.out.size _).grown hgrow5 (by have := HB4.out.size; simp; omega) (fun q hq => (HO4'.out.lt q hq).1)
        clear hown5 hgrow5 HN4 HO4' HO4 HG4 HX4 HB4 c0 c1 c2 c3
        have HJ : Hid (F + m ≤ len + 1000) := by show _ ≤ _; omega
        go_wp2
        go_roundw
        case rel =>
          refine ⟨j + 1, F + m, _, hjn, by go_num, by rw [List.length_append, hll]; rfl, HJ.out, HFm.out.symm, HO5, ?_, HB5⟩
          show _ = _
          rw [List.map_append, HL.out, List.range_succ, List.map_append, List.map_cons, List.map_cons, HPj.out]
          simp only [FE.data, HTp.out, List.map_nil]
        case measure => simp [intOf]; omega
    · have hje : j = n := by omega
      have hj0 : ¬ (j = 0 ∨ j * m < len) := fun h => hjn ((HN.out j).1.2 h)
      rw [← HF.out] at hj0
      have e1 : ((F : Int) == 0) = false := by
        simp
        intro h
        have h2 : j * m = 0 := by rw [← HF.out]; exact h
        rcases Nat.mul_eq_zero.1 h2 with h3 | h3
        · exact hj0 (.inl h3)
        · omega
      have e2 : decide ((F : Int) < (len : Int)) = false := by simp; omega
      have e3 : ((F : Int) < (len : Int)) = False := by simp; omega
      have HL2 : Hid (l.map FE.data = (List.range n).map (prt m s en zs)) := by show _ = _; rw [HL.out, hje]
      have HO2 : Hid (FrRow wr w.heap.size (.slice va j vc) l) := by have := HO.out; rw [hll] at this; exact this
      clear hje hj0 hjn HL HO HN
      go_wp2_with fail
      go_ret
      exact ⟨_, _, rfl, HO2.out, HL2.out, HB.out⟩

theorem specPart_any (s : Int) (en : Bool) (b off len cap : Nat) (zs : List Int) (most : Int) (w : World) (hs : Seg w (some ⟨b, off, none⟩) len zs) (hcap : len ≤ cap) (hl : len ≤ 1048576) :
    Calls Tryz.prog 25 #[.int .i64 s, .bool en, .slice (some ⟨b, off, none⟩) len cap, .int .i64 most] w fun e w' => ∃ v l, e = .returned v ∧ FrRow w' w.heap.size v l ∧ l.map FE.data = partL s en zs most ∧ Below w.heap.size w w' := by
  by_cases h : 1 ≤ s ∧ s ≤ 2147483647
  · rw [partL, if_pos h, hs.1]
    by_cases hc0 : 1 ≤ cap
    · exact specPart_yes s en b off len cap _ zs most w hs hcap hc0 hl h.1 h.2 rfl
    · obtain rfl : cap = 0 := by omega
      obtain rfl : len = 0 := by omega
      obtain rfl : zs = [] := List.eq_nil_of_length_eq_zero hs.1
      exact specPart_zero s en b off _ most w h.1 h.2 rfl
  · exact specPart_no s en b off len cap zs most w h

end Go.Proofs.YtbaijmkghgnleaaGreatDoor
