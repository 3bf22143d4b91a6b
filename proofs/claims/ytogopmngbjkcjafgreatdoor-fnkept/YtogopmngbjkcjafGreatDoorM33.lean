/- What the program's with answers: an upload more, at its place. An upload written into a row. No program in it but its table of types. The library's DeleteFunc of uploads of one name, in a row of the call's own; the program's without. What the program's fold makes of a record that begins an upload. What the program's fitsUp answers. -/
import Derived.Test.YtogopmngbjkcjafGreatDoorM32
import Derived.Test.YtogopmngbjkcjafGreatDoorM11
import Derived.Test.YtogopmngbjkcjafGreatDoorM32
import Derived.Test.YtogopmngbjkcjafGreatDoorM23
import Derived.Test.YtogopmngbjkcjafGreatDoorM05
import Derived.Test.YtogopmngbjkcjafGreatDoorM04
import Derived.Shelf.Abstract
import Derived.Test.YtogopmngbjkcjafGreatDoorM16
import Derived.Deep.CutBlock
import Derived.Test.YtogopmngbjkcjafGreatDoorM08
namespace Go.Proofs.YtogopmngbjkcjafGreatDoor
open Go.RowKit
set_option linter.unusedVariables false

theorem OwnU.at {W : World} {base n c : Nat} {a : Option Addr} {l : List UE} (h : OwnU W base a n c l) {i : Nat} (hi : i < l.length) :
    ∃ g, a = some ⟨g, 0, none⟩ ∧ g < W.heap.size ∧ W.cell? ⟨g, i * 4, none⟩ = some (.string (l[i]).u.id) ∧ W.cell? ⟨g, i * 4 + 1, none⟩ = some (.int .i64 (l[i]).u.want) ∧ W.cell? ⟨g, i * 4 + 2, none⟩ = some (.slice (l[i]).a (l[i]).n (l[i]).c) ∧ W.cell? ⟨g, i * 4 + 3, none⟩ = some (.bool (l[i]).u.done) ∧ ∀ j, W.frozen? ⟨g, j, none⟩ = false := by
  have hn := h.len
  have h' : W.ownsRow base 36 4 (.slice a n c) n (ueCells l) := h
  rcases h'.2 with ⟨_, h0⟩ | ⟨g, cap, cur, he, _⟩
  · omega
  · injection he with e1 e2 e3
    subst e1
    have hl := ueCells_len l
    obtain ⟨h0, h1, h2, h3⟩ := ueCells_at l i hi
    refine ⟨g, rfl, (h.lt g rfl).2, ?_, ?_, ?_, ?_, fun j => h'.frozenAt j⟩
    · rw [h'.cellAt _ (by omega)]; exact h0
    · rw [h'.cellAt _ (by omega)]; exact h1
    · rw [h'.cellAt _ (by omega)]; exact h2
    · rw [h'.cellAt _ (by omega)]; exact h3

set_option maxRecDepth 10000 in
set_option maxHeartbeats 1600000 in
theorem implWithU_any (base : Nat) (A : Option Addr) (n C : Nat) (l : List UE) (x : UE) (w : World) (ho : OwnU w base A n C l) (hn : n ≤ 1048576) (hb : base ≤ w.heap.size) :
    Calls Tryz.prog 166 #[.slice A n C, .agg #[.string x.u.id, .int .i64 x.u.want, .slice x.a x.n x.c, .bool x.u.done]] w fun e w' => ∃ A' C', e = .returned (.slice A' (n + 1) C') ∧ OwnU w' base A' (n + 1) C' (l.take (lessU (l.map UE.u) x.u.id) ++ [x] ++ l.drop (lessU (l.map UE.u) x.u.id)) ∧ w.grownBy w' (A.map (·.block)) := by
  have HO : Hid (OwnU w base A n C l) := ho
  have HL : Hid (l.length = n) := ho.len
  have HBs : Hid (base ≤ w.heap.size) := hb
  have HB0 : Hid (Below w.heap.size w (w.alloc (.cells #[.string x.u.id, .int .i64 x.u.want, .slice x.a x.n x.c, .bool x.u.done] 36))) := (Below.refl _ _).alloc (Nat.le_refl _) _
  have HX0 : Hid (BoxN (w.alloc (.cells #[.string x.u.id, .int .i64 x.u.want, .slice x.a x.n x.c, .bool x.u.done] 36)) w.heap.size 36 [.string x.u.id, .int .i64 x.u.want, .slice x.a x.n x.c, .bool x.u.done]) := BoxN.new _ _ _
  clear ho hb
  go_enter Tryz.func166, Tryz.ntmps166
  go_wp2_with fail
  obtain ⟨w1, hw1⟩ : ∃ w1, w.alloc (.cells #[.string x.u.id, .int .i64 x.u.want, .slice x.a x.n x.c, .bool x.u.done] 36) = w1 := ⟨_, rfl⟩
  rw [hw1] at HB0 HX0 ⊢
  clear hw1
  have hwl : w.heap.size < w1.heap.size := HX0.out.lt
  go_loopw [5] (fun v wr => ∃ k : Nat, k ≤ n ∧ v = .int .i64 k ∧ Hid (Below w1.heap.size w1 wr) ∧ Hid (∀ j (hj : j < (l.map UE.u).length), j < k → ltS ((l.map UE.u)[j]).id x.u.id = true)) (fun v _ => n - (intOf v).toNat)
  case atStart => exact ⟨0, Nat.zero_le _, rfl, Below.refl _ _, fun j _ hj => absurd hj (Nat.not_lt_zero _)⟩
  case round =>
    obtain ⟨k, hk, rfl, HB, HN⟩ := hrel
    have hxr := HX0.out.stays HB.out
    have hwr : w.heap.size < wr.heap.size := Nat.lt_of_lt_of_le hwl HB.out.size
    have hne := past_some wr
    have x5 : ∀ P : Past wr, P.world.cell? ⟨w.heap.size, 0, none⟩ = some (.string x.u.id) := fun P => P.cell hwr (hxr.cell 0 rfl)
    have x6 : ∀ P : Past wr, P.world.cell? ⟨w.heap.size, 1, none⟩ = some (.int .i64 x.u.want) := fun P => P.cell hwr (hxr.cell 1 rfl)
    have x7 : ∀ P : Past wr, P.world.cell? ⟨w.heap.size, 2, none⟩ = some (.slice x.a x.n x.c) := fun P => P.cell hwr (hxr.cell 2 rfl)
    have x8 : ∀ P : Past wr, P.world.cell? ⟨w.heap.size, 3, none⟩ = some (.bool x.u.done) := fun P => P.cell hwr (hxr.cell 3 rfl)
    have HWr : Hid (Below w.heap.size w wr) := HB0.out.trans (HB.out.mono HB0.out.size)
    have HO2 : Hid (OwnU wr base A n C l) := HO.out.below HWr.out
    have m2 := keyMU x.u.id x.u.want x.a x.n x.c x.u.done
    by_cases hlt : k < n
    case neg =>
      have HLs : Hid (lessU (l.map UE.u) x.u.id = k) := lessU_at (by have := HL.out; rw [List.length_map]; omega) HN.out (fun h => by have := HL.out; rw [List.length_map] at h; omega)
      have hkn : ¬ ((k : Int) < (n : Int)) := by omega
      have dk0 : decide ((k : Int) < (n : Int)) = false := by simpa using hkn
      have dk1 : ((k : Int) < (n : Int)) = False := by simpa using hkn
      have dk2 : decide (k < n) = false := by simpa using hlt
      have dk3 : (k < n) = False := by simpa using hlt
      go_wp2_with fail
      go_quiet (fail)
      have hxq : BoxN (wr.drewN nq) w.heap.size 36 [.string x.u.id, .int .i64 x.u.want, .slice x.a x.n x.c, .bool x.u.done] := hxr
      have HZ : Hid (Below w.heap.size w (wr.drewN nq)) := below_drewN HWr.out _
      obtain ⟨W4, hW4⟩ : ∃ W4, wr.drewN nq = W4 := ⟨_, rfl⟩
      rw [hW4] at hxq HZ ⊢
      clear hW4 x5 x6 x7 x8 hxr
      have y5 := hxq.cell 0 rfl
      have y6 := hxq.cell 1 rfl
      have y7 := hxq.cell 2 rfl
      have y8 := hxq.cell 3 rfl
      have HV : Hid ((W4.alloc (.cells #[.string x.u.id, .int .i64 x.u.want, .slice x.a x.n x.c, .bool x.u.done] 36)).heap[W4.heap.size]? = some (.cells #[.string x.u.id, .int .i64 x.u.want, .slice x.a x.n x.c, .bool x.u.done] 36 (0, 0))) := heap_alloc_new W4 _
      have HZ5 : Hid (Below w.heap.size w (W4.alloc (.cells #[.string x.u.id, .int .i64 x.u.want, .slice x.a x.n x.c, .bool x.u.done] 36))) := HZ.out.alloc HZ.out.size _
      have HO5 : Hid (OwnU (W4.alloc (.cells #[.string x.u.id, .int .i64 x.u.want, .slice x.a x.n x.c, .bool x.u.done] 36)) base A n C l) := HO.out.below HZ5.out
      have HN5 : Hid (Option.map (fun a : Addr => a.block) A ≠ some W4.heap.size) := fun e => by have h1 := (HO.out.lt _ e).2; have h2 := HZ.out.size; omega
      clear hxq
      go_wp2_with fail
      refine (insU_any base A n C k l W4.heap.size x _ HO5.out HV.out HN5.out hk hn (Nat.le_trans HBs.out HZ5.out.size)).mono ?_
      rintro e w5 ⟨A5, C5, rfl, ho5, hg5⟩
      have HR : Hid (OwnU w5 base A5 (n + 1) C5 (l.take (lessU (l.map UE.u) x.u.id) ++ [x] ++ l.drop (lessU (l.map UE.u) x.u.id)) ∧ w.grownBy w5 (Option.map (·.block) A)) := by
        refine ⟨by rw [HLs.out]; exact ho5, ⟨hg5.os.trans HZ5.out.os, hg5.tape.trans HZ5.out.tape, hg5.output.trans HZ5.out.output, Nat.le_trans HZ5.out.size hg5.size, fun j hj hne => (hg5.block j (Nat.lt_of_lt_of_le hj HZ5.out.size) hne).trans (HZ5.out.block j hj)⟩⟩
      clear ho5 hg5
      go_wp2_with fail
      go_ret
      exact ⟨_, _, rfl, HR.out.1, HR.out.2⟩
    have hki : (k : Int) < (n : Int) := by omega
    have hkl : k < l.length := by have := HL.out; omega
    obtain ⟨b, rfl, hb, g0, g1, g2, g3, _⟩ := HO2.out.at hkl
    have HA : Hid (((l.map UE.u)[k]'(by rw [List.length_map]; exact hkl)).id = (l[k]).u.id) := by show _ = _; rw [List.getElem_map]
    have m1 := keyMU (l[k]).u.id (l[k]).u.want (l[k]).a (l[k]).n (l[k]).c (l[k]).u.done
    have x1 : ∀ P : Past wr, P.world.cell? ⟨b, k * 4, none⟩ = some (.string (l[k]).u.id) := fun P => P.cell hb g0
    have x2 : ∀ P : Past wr, P.world.cell? ⟨b, k * 4 + 1, none⟩ = some (.int .i64 (l[k]).u.want) := fun P => P.cell hb g1
    have x3 : ∀ P : Past wr, P.world.cell? ⟨b, k * 4 + 2, none⟩ = some (.slice (l[k]).a (l[k]).n (l[k]).c) := fun P => P.cell hb g2
    have x4 : ∀ P : Past wr, P.world.cell? ⟨b, k * 4 + 3, none⟩ = some (.bool (l[k]).u.done) := fun P => P.cell hb g3
    by_cases g : ltS (l[k]).u.id x.u.id = true
    · have HN2 : Hid (∀ j (hj : j < (l.map UE.u).length), j < k + 1 → ltS ((l.map UE.u)[j]).id x.u.id = true) := fun j hj hjk => by
        by_cases e : j = k
        · subst e; rw [HA.out]; exact g
        · exact HN.out j hj (by omega)
      have d5 : Op.bytesLess (l[k]).u.id.toList x.u.id.toList = true := g
      clear HN HA g g0 g1 g2 g3
      generalize l[k] = y at *
      go_wp2_with fail
      refine wp_region_past (by kernel_rfl) (by kernel_rfl) ?_
      repeat (quiet_step ((first | (go_at_call 193; exact calls_past (implKeyU_any _ _ _ _ _ _ _)) | fail)))
      refine wpQuiet_nil ?_
      rintro _ ⟨z, rfl⟩
      have HZ : Hid (Below w1.heap.size w1 z.world) := HB.out.trans (z.below.mono HB.out.size)
      go_wp2_with fail
      go_roundw
      case rel => exact ⟨k + 1, by omega, by go_num, HZ, HN2⟩
      case measure => simp [intOf]; omega
    · have g' : ltS (l[k]).u.id x.u.id = false := by simpa using g
      have HLs : Hid (lessU (l.map UE.u) x.u.id = k) := lessU_at (by rw [List.length_map]; omega) HN.out (fun h => by rw [HA.out]; exact g')
      have d5 : Op.bytesLess (l[k]).u.id.toList x.u.id.toList = false := g'
      clear HN HA g g' g0 g1 g2 g3
      generalize l[k] = y at *
      go_wp2_with fail
      refine wp_region_past (by kernel_rfl) (by kernel_rfl) ?_
      repeat (quiet_step ((first | (go_at_call 193; exact calls_past (implKeyU_any _ _ _ _ _ _ _)) | fail)))
      refine wpQuiet_nil ?_
      rintro _ ⟨z, rfl⟩
      have y5 := x5 z
      have y6 := x6 z
      have y7 := x7 z
      have y8 := x8 z
      have HZ : Hid (Below w.heap.size w z.world) := HWr.out.trans (z.below.mono HWr.out.size)
      obtain ⟨W4, hW4⟩ : ∃ W4, z.world = W4 := ⟨_, rfl⟩
      rw [hW4] at y5 y6 y7 y8 HZ ⊢
      clear hW4 x5 x6 x7 x8 x1 x2 x3 x4
      have HV : Hid ((W4.alloc (.cells #[.string x.u.id, .int .i64 x.u.want, .slice x.a x.n x.c, .bool x.u.done] 36)).heap[W4.heap.size]? = some (.cells #[.string x.u.id, .int .i64 x.u.want, .slice x.a x.n x.c, .bool x.u.done] 36 (0, 0))) := heap_alloc_new W4 _
      have HZ5 : Hid (Below w.heap.size w (W4.alloc (.cells #[.string x.u.id, .int .i64 x.u.want, .slice x.a x.n x.c, .bool x.u.done] 36))) := HZ.out.alloc HZ.out.size _
      have HO5 : Hid (OwnU (W4.alloc (.cells #[.string x.u.id, .int .i64 x.u.want, .slice x.a x.n x.c, .bool x.u.done] 36)) base (some ⟨b, 0, none⟩) n C l) := HO.out.below HZ5.out
      have HN5 : Hid (Option.map (fun a : Addr => a.block) (some (⟨b, 0, none⟩ : Addr)) ≠ some W4.heap.size) := fun e => by have h1 := (HO.out.lt _ e).2; have h2 := HZ.out.size; omega
      go_wp2_with fail
      refine (insU_any base (some ⟨b, 0, none⟩) n C k l W4.heap.size x _ HO5.out HV.out HN5.out hk hn (Nat.le_trans HBs.out HZ5.out.size)).mono ?_
      rintro e w5 ⟨A5, C5, rfl, ho5, hg5⟩
      have HR : Hid (OwnU w5 base A5 (n + 1) C5 (l.take (lessU (l.map UE.u) x.u.id) ++ [x] ++ l.drop (lessU (l.map UE.u) x.u.id)) ∧ w.grownBy w5 (Option.map (fun a : Addr => a.block) (some (⟨b, 0, none⟩ : Addr)))) := by
        refine ⟨by rw [HLs.out]; exact ho5, ⟨hg5.os.trans HZ5.out.os, hg5.tape.trans HZ5.out.tape, hg5.output.trans HZ5.out.output, Nat.le_trans HZ5.out.size hg5.size, fun j hj hne => (hg5.block j (Nat.lt_of_lt_of_le hj HZ5.out.size) hne).trans (HZ5.out.block j hj)⟩⟩
      clear ho5 hg5
      go_wp2_with fail
      go_ret
      exact ⟨_, _, rfl, HR.out.1, HR.out.2⟩

end Go.Proofs.YtogopmngbjkcjafGreatDoor

namespace Go.Proofs.YtogopmngbjkcjafGreatDoor
open Go.RowKit
set_option linter.unusedVariables false

/-- An upload is written into a row of the call's own. -/
theorem ueCells_put (M D : List UE) (e x : UE) :
    ((((ueCells (M ++ e :: D)).set (M.length * 4) (.string x.u.id)).set (M.length * 4 + 1) (.int .i64 x.u.want)).set (M.length * 4 + 2) (.slice x.a x.n x.c)).set (M.length * 4 + 3) (.bool x.u.done) = ueCells (M ++ x :: D) := by
  have hl := ueCells_len M
  rw [ueCells_append, ueCells_append, ueCells_cons, ueCells_cons]
  rw [List.set_append_right _ _ (by omega), hl, Nat.sub_self, List.set_cons_zero]
  rw [List.set_append_right _ _ (by omega), hl, show M.length * 4 + 1 - M.length * 4 = 1 by omega]
  rw [List.set_append_right _ _ (by omega), hl, show M.length * 4 + 2 - M.length * 4 = 2 by omega]
  rw [List.set_append_right _ _ (by omega), hl, show M.length * 4 + 3 - M.length * 4 = 3 by omega]
  rfl

theorem OwnU.put {w : World} {base g n C : Nat} {M D : List UE} {e : UE} (h : OwnU w base (some ⟨g, 0, none⟩) n C (M ++ e :: D)) (x : UE) :
    OwnU ((((w.setCell ⟨g, M.length * 4, none⟩ (.string x.u.id)).setCell ⟨g, M.length * 4 + 1, none⟩ (.int .i64 x.u.want)).setCell ⟨g, M.length * 4 + 2, none⟩ (.slice x.a x.n x.c)).setCell ⟨g, M.length * 4 + 3, none⟩ (.bool x.u.done)) base (some ⟨g, 0, none⟩) n C (M ++ x :: D) ∧ w.grownBy ((((w.setCell ⟨g, M.length * 4, none⟩ (.string x.u.id)).setCell ⟨g, M.length * 4 + 1, none⟩ (.int .i64 x.u.want)).setCell ⟨g, M.length * 4 + 2, none⟩ (.slice x.a x.n x.c)).setCell ⟨g, M.length * 4 + 3, none⟩ (.bool x.u.done)) (some g) := by
  have h0 : w.ownsRow base 36 4 (.slice (some ⟨g, 0, none⟩) n C) n (ueCells (M ++ e :: D)) := h
  have h1 := h0.stored (M.length * 4) (.string x.u.id)
  have h2 := h1.1.stored (M.length * 4 + 1) (.int .i64 x.u.want)
  have h3 := h2.1.stored (M.length * 4 + 2) (.slice x.a x.n x.c)
  have h4 := h3.1.stored (M.length * 4 + 3) (.bool x.u.done)
  have h5 := h4.1
  rw [ueCells_put] at h5
  exact ⟨h5, World.grownBy.trans (World.grownBy.trans (World.grownBy.trans h1.2 h2.2) h3.2) h4.2⟩

end Go.Proofs.YtogopmngbjkcjafGreatDoor

namespace Go.Proofs.YtogopmngbjkcjafGreatDoor
open Go.RowKit
set_option linter.unusedVariables false

set_option maxRecDepth 10000 in
set_option maxHeartbeats 800000 in
theorem implDelU_any (x : UE) (id : ByteArray) (kb : Nat) (w : World) (h : w.cell? ⟨kb, 0, none⟩ = some (.string id)) : Calls Tryz.prog 172 #[.agg #[.string x.u.id, .int .i64 x.u.want, .slice x.a x.n x.c, .bool x.u.done], .pointer (some ⟨kb, 0, none⟩)] w fun e w' => e = .returned (.bool (decide (x.u.id = id))) ∧ Below w.heap.size w w' := by
  have hkb : kb < w.heap.size := lt_of_cell h
  have HB : Hid (Below w.heap.size w (w.alloc (.cells #[.string x.u.id, .int .i64 x.u.want, .slice x.a x.n x.c, .bool x.u.done] 36))) := (Below.refl _ _).alloc (Nat.le_refl _) _
  have hx : BoxN (w.alloc (.cells #[.string x.u.id, .int .i64 x.u.want, .slice x.a x.n x.c, .bool x.u.done] 36)) w.heap.size 36 [.string x.u.id, .int .i64 x.u.want, .slice x.a x.n x.c, .bool x.u.done] := BoxN.new _ _ _
  have hk1 : (w.alloc (.cells #[.string x.u.id, .int .i64 x.u.want, .slice x.a x.n x.c, .bool x.u.done] 36)).cell? ⟨kb, 0, none⟩ = some (.string id) := (HB.out.cell (p := ⟨kb, 0, none⟩) hkb).trans h
  have m1 := keyMU x.u.id x.u.want x.a x.n x.c x.u.done
  have he := ids_eq x.u.id id
  go_enter Tryz.func172, Tryz.ntmps172
  go_wp2_with fail
  obtain ⟨w1, hw1⟩ : ∃ w1, w.alloc (.cells #[.string x.u.id, .int .i64 x.u.want, .slice x.a x.n x.c, .bool x.u.done] 36) = w1 := ⟨_, rfl⟩
  rw [hw1] at hx hk1 HB ⊢
  clear hw1
  have hlt : w.heap.size < w1.heap.size := hx.lt
  have hne := past_some w1
  have y0 : ∀ P : Past w1, P.world.cell? ⟨w.heap.size, 0, none⟩ = some (.string x.u.id) := fun P => P.cell hlt (hx.cell 0 rfl)
  have y1 : ∀ P : Past w1, P.world.cell? ⟨w.heap.size, 1, none⟩ = some (.int .i64 x.u.want) := fun P => P.cell hlt (hx.cell 1 rfl)
  have y2 : ∀ P : Past w1, P.world.cell? ⟨w.heap.size, 2, none⟩ = some (.slice x.a x.n x.c) := fun P => P.cell hlt (hx.cell 2 rfl)
  have y3 : ∀ P : Past w1, P.world.cell? ⟨w.heap.size, 3, none⟩ = some (.bool x.u.done) := fun P => P.cell hlt (hx.cell 3 rfl)
  have y4 : ∀ P : Past w1, P.world.cell? ⟨kb, 0, none⟩ = some (.string id) := fun P => P.cell (by show kb < _; omega) hk1
  clear hk1 hx h
  refine wp_region_past (by kernel_rfl) (by kernel_rfl) ?_
  repeat (quiet_step ((first | (go_at_call 193; exact calls_past (implKeyU_any _ _ _ _ _ _ _)) | fail)))
  refine wpQuiet_nil ?_
  rintro _ ⟨z, rfl⟩
  have HZ : Hid (Below w.heap.size w z.world) := HB.out.trans (z.below.mono HB.out.size)
  go_wp2_with fail
  go_ret
  exact ⟨rfl, HZ.out⟩

set_option maxRecDepth 10000 in
set_option maxHeartbeats 800000 in
theorem implIdxU_any (base : Nat) (a : Option Addr) (len cap : Nat) (l : List UE) (g : Nat) (cb : Array Value) (pr : UE → Bool) (w : World) (eg : ∀ (args : Array Value) (w : World), Sem.run Tryz.prog (callFunc g args) w = .ok (.enter g args) w) (hs : OwnU w base a len cap l) (hl : len ≤ 1099511627776)
    (hp : ∀ (x : UE) W, Below w.heap.size w W → Calls Tryz.prog g (#[.agg #[.string x.u.id, .int .i64 x.u.want, .slice x.a x.n x.c, .bool x.u.done]] ++ cb) W fun e w' => e = .returned (.bool (pr x)) ∧ Below W.heap.size W w') (K : Nat) (hK : K < l.length) (hpK : pr l[K] = true) (hpj : ∀ j (hj : j < l.length), j < K → pr l[j] = false) :
    Calls Tryz.prog 175 #[.slice a len cap, .func (.func g) #[] cb] w fun e w' => e = .returned (.int .i64 (K : Int)) ∧ Below w.heap.size w w' := by
  have HL : Hid (l.length = len) := hs.len
  have HS : Hid (OwnU w base a len cap l) := hs
  have HP : Hid (∀ (x : UE) W, Below w.heap.size w W → Calls Tryz.prog g (#[.agg #[.string x.u.id, .int .i64 x.u.want, .slice x.a x.n x.c, .bool x.u.done]] ++ cb) W fun e w' => e = .returned (.bool (pr x)) ∧ Below W.heap.size W w') := hp
  have HK : Hid (pr l[K] = true) := hpK
  have HJ : Hid (∀ j (hj : j < l.length), j < K → pr l[j] = false) := hpj
  clear hs hp hpK hpj
  have hKl : K < len := by have := HL.out; omega
  go_enter Tryz.func175, Tryz.ntmps175
  go_wp2_with fail
  go_loopw [8] (fun v wr => ∃ k : Nat, k ≤ K ∧ v = .int .i64 k ∧ Hid (Below w.heap.size w wr)) (fun v _ => len - (intOf v).toNat)
  case atStart => exact ⟨0, Nat.zero_le _, rfl, Below.refl _ _⟩
  case round =>
    obtain ⟨k, hk, rfl, HB⟩ := hrel
    have hlt : k < len := by omega
    have hkl : k < l.length := by have := HL.out; omega
    have hki : (k : Int) < (len : Int) := by omega
    obtain ⟨b, rfl, hb, g0, g1, g2, g3, _⟩ := (HS.out.below HB.out).at hkl
    by_cases hkK : k = K
    · subst hkK
      have HPk := HK
      generalize l[k] = x at *
      have hpr : pr x = true := HPk.out
      clear HPk HK
      go_wp2_with fail
      refine (HP.out x _ HB.out).mono ?_
      rintro e w1 ⟨rfl, hb1⟩
      have HB1 : Hid (Below w.heap.size w w1) := HB.out.trans (hb1.mono HB.out.size)
      clear hb1
      rw [hpr]
      go_wp2_with fail
      go_ret
      exact ⟨rfl, HB1.out⟩
    · have hpr : pr l[k] = false := HJ.out k hkl (by omega)
      generalize l[k] = x at *
      go_wp2_with fail
      refine (HP.out x _ HB.out).mono ?_
      rintro e w1 ⟨rfl, hb1⟩
      have HB1 : Hid (Below w.heap.size w w1) := HB.out.trans (hb1.mono HB.out.size)
      clear hb1
      rw [hpr]
      go_wp2_with fail
      go_roundw
      case rel => exact ⟨k + 1, by omega, by go_num, HB1⟩
      case measure => simp [intOf]; omega

/-- What is kept of the first uploads. -/
def keptE (id : ByteArray) (l : List UE) : List UE := l.filter fun s => !decide (s.u.id = id)

theorem keptE_map (id : ByteArray) (l : List UE) : (keptE id l).map UE.u = keptU (l.map UE.u) id := by
  rw [keptE, keptU, List.filter_map]
  rfl

theorem keptE_take_all {id : ByteArray} {l : List UE} {K : Nat} (h : ∀ j (hj : j < l.length), j < K → (l[j]).u.id ≠ id) : keptE id (l.take K) = l.take K := by
  unfold keptE
  rw [List.filter_eq_self]
  intro s hs
  obtain ⟨j, hj, rfl⟩ := List.mem_iff_getElem.1 hs
  rw [List.length_take] at hj
  rw [List.getElem_take]
  simpa using h j (by omega) (by omega)

theorem keptE_next {id : ByteArray} {l : List UE} {j : Nat} (h : j < l.length) : keptE id (l.take (j + 1)) = keptE id (l.take j) ++ (if decide ((l[j]).u.id = id) then [] else [l[j]]) := by
  unfold keptE
  rw [List.take_succ_eq_append_getElem h, List.filter_append]
  congr 1
  by_cases e : (l[j]).u.id = id
  · simp [e]
  · simp [e]

set_option maxRecDepth 10000 in
set_option maxHeartbeats 1600000 in
theorem delU_any (base g n C : Nat) (l : List UE) (id : ByteArray) (kb K : Nat) (w : World) (ho : OwnU w base (some ⟨g, 0, none⟩) n C l) (hkb : w.cell? ⟨kb, 0, none⟩ = some (.string id)) (hne : kb ≠ g) (hn : n ≤ 1048576) (hKn : K < l.length) (hkp : ∀ j (hj : j < l.length), j < K → (l[j]).u.id ≠ id) (hkK : (l[K]).u.id = id) :
    Calls Tryz.prog 171 #[.slice (some ⟨g, 0, none⟩) n C, .func (.func 172) #[] #[.pointer (some ⟨kb, 0, none⟩)]] w fun e w' => e = .returned (.slice (some ⟨g, 0, none⟩) (keptE id l).length C) ∧ OwnU w' base (some ⟨g, 0, none⟩) (keptE id l).length C (keptE id l) ∧ w.grownBy w' (some g) := by
  have hkl : kb < w.heap.size := lt_of_cell hkb
  have hgl : g < w.heap.size := (ho.lt g rfl).2
  have HIx : Hid (Calls Tryz.prog 175 #[.slice (some ⟨g, 0, none⟩) n C, .func (.func 172) #[] #[.pointer (some ⟨kb, 0, none⟩)]] w fun e w' => e = .returned (.int .i64 (K : Int)) ∧ Below w.heap.size w w') :=
    implIdxU_any base (some ⟨g, 0, none⟩) n C l 172 #[.pointer (some ⟨kb, 0, none⟩)] (fun x => decide (x.u.id = id)) w (enters_of Tryz.func172 (by kernel_rfl) rfl) ho (by omega) (fun x W hb => implDelU_any x id kb W ((hb.cell (p := ⟨kb, 0, none⟩) hkl).trans hkb)) K hKn (decide_eq_true hkK) (fun j hj hjK => decide_eq_false (hkp j hj hjK))
  have HL : Hid (l.length = n) := ho.len
  have hKn2 : K < n := by have := HL.out; omega
  have HT : Hid (keptE id (l.take (K + 1)) = l.take K) := by
    show _ = _
    rw [keptE_next hKn, keptE_take_all hkp, hkK]
    simp
  have HO : Hid (OwnU w base (some ⟨g, 0, none⟩) n C l) := ho
  have HKb : Hid (w.cell? ⟨kb, 0, none⟩ = some (.string id)) := hkb
  have hnC : n ≤ C := by obtain ⟨_, _, _, h, _⟩ := ho.row; exact h
  have hCm : C ≤ maxLen := by obtain ⟨_, _, _, _, h⟩ := ho.row; exact h
  have hbg : base ≤ g := (ho.lt g rfl).1
  clear ho hkb hkp hkK
  go_enter Tryz.func171, Tryz.ntmps171
  go_wp2_with fail
  refine HIx.out.mono ?_
  rintro e w1 ⟨rfl, hb1⟩
  have HB1 : Hid (Below w.heap.size w w1) := hb1
  clear hb1 HIx
  have hK1 : ((K : Int) == -1) = false := by simp
  go_wp2_with fail
  go_loopw [5, 6, 7] (fun vi vj _ wr => ∃ i j : Nat, vi = .int .i64 i ∧ vj = .int .i64 j ∧ i < j ∧ j ≤ n ∧ Hid ((keptE id (l.take j)).length = i) ∧ Hid (OwnU wr base (some ⟨g, 0, none⟩) n C (keptE id (l.take j) ++ l.drop i)) ∧ Hid (w.grownBy wr (some g))) (fun _ vj _ _ => n - (intOf vj).toNat)
  case atStart => exact ⟨K, K + 1, rfl, by go_num, by omega, by omega, by show _ = _; rw [HT.out, List.length_take]; omega, by rw [HT.out, List.take_append_drop]; exact HO.out.below HB1.out, ⟨HB1.out.os, HB1.out.tape, HB1.out.output, HB1.out.size, fun j hj _ => HB1.out.block j hj⟩⟩
  case round =>
    obtain ⟨i, j, rfl, rfl, hij, hjn, HI, HOr, HG⟩ := hrel
    have hkc : wr.cell? ⟨kb, 0, none⟩ = some (.string id) := HG.out.cell HKb.out (by simpa using hne)
    have hkl2 : kb < wr.heap.size := Nat.lt_of_lt_of_le hkl HG.out.size
    have hgl2 : g < wr.heap.size := Nat.lt_of_lt_of_le hgl HG.out.size
    by_cases hlt : j < n
    · have hji : (j : Int) < (n : Int) := by omega
      have hii : (i : Int) < (n : Int) := by omega
      have hjl : j < l.length := by have := HL.out; omega
      have hLn := HOr.out.len
      have hge : (keptE id (l.take j) ++ l.drop i)[j]'(by omega) = l[j] := by
        have hI := HI.out
        have h1 : (keptE id (l.take j) ++ l.drop i)[j]? = some l[j] := by
          rw [List.getElem?_append_right (by omega), hI, List.getElem?_drop, show i + (j - i) = j by omega, List.getElem?_eq_getElem hjl]
        rw [List.getElem?_eq_getElem (by omega)] at h1
        exact Option.some.inj h1
      obtain ⟨b, hab, hb, g0, g1, g2, g3, _⟩ := HOr.out.at (i := j) (by omega)
      injection hab with hab
      injection hab with e1
      subst e1
      rw [hge] at g0 g1 g2 g3
      have HNx : Hid (keptE id (l.take (j + 1)) = keptE id (l.take j) ++ (if decide ((l[j]).u.id = id) then [] else [l[j]])) := keptE_next hjl
      clear hge hLn
      generalize l[j] = x at *
      have HBa : Hid (Below wr.heap.size wr (wr.alloc (.cells #[.string x.u.id, .int .i64 x.u.want, .slice x.a x.n x.c, .bool x.u.done] 36))) := (Below.refl _ _).alloc (Nat.le_refl _) _
      have HXa : Hid (BoxN (wr.alloc (.cells #[.string x.u.id, .int .i64 x.u.want, .slice x.a x.n x.c, .bool x.u.done] 36)) wr.heap.size 36 [.string x.u.id, .int .i64 x.u.want, .slice x.a x.n x.c, .bool x.u.done]) := BoxN.new _ _ _
      have HKa : Hid ((wr.alloc (.cells #[.string x.u.id, .int .i64 x.u.want, .slice x.a x.n x.c, .bool x.u.done] 36)).cell? ⟨kb, 0, none⟩ = some (.string id)) := (HBa.out.cell (p := ⟨kb, 0, none⟩) hkl2).trans hkc
      have eg : ∀ (args : Array Value) (w : World), Sem.run Tryz.prog (callFunc 172 args) w = .ok (.enter 172 args) w := enters_of Tryz.func172 (by kernel_rfl) rfl
      clear hkc
      go_wp2_with fail
      refine (implDelU_any x id kb _ HKa.out).mono ?_
      rintro e w3 ⟨rfl, hb3⟩
      have HB3 : Hid (Below wr.heap.size wr w3) := HBa.out.trans (hb3.mono HBa.out.size)
      have hx3 := HXa.out.stays hb3
      have HO3 : Hid (OwnU w3 base (some ⟨g, 0, none⟩) n C (keptE id (l.take j) ++ l.drop i)) := HOr.out.below HB3.out
      have HG3 : Hid (w.grownBy w3 (some g)) := ⟨HB3.out.os.trans HG.out.os, HB3.out.tape.trans HG.out.tape, HB3.out.output.trans HG.out.output, Nat.le_trans HG.out.size HB3.out.size, fun z hz hzn => (HB3.out.block z (Nat.lt_of_lt_of_le hz HG.out.size)).trans (HG.out.block z hz hzn)⟩
      clear hb3 HBa HKa HXa HOr HG g0 g1 g2 g3
      cases hpk : (decide (x.u.id = id))
      case true =>
        rw [hpk] at HNx
        have HN2 : Hid (keptE id (l.take (j + 1)) = keptE id (l.take j)) := by show _ = _; rw [HNx.out]; simp
        go_wp2_with fail
        go_roundw
        case rel => exact ⟨i, j + 1, rfl, by go_num, by omega, by omega, by rw [HN2.out]; exact HI.out, by rw [HN2.out]; exact HO3.out, HG3⟩
        case measure => simp [intOf]; omega
      case false =>
        rw [hpk] at HNx
        have HN2 : Hid (keptE id (l.take (j + 1)) = keptE id (l.take j) ++ [x]) := by show _ = _; rw [HNx.out]; simp
        have x0 := hx3.cell 0 rfl
        have x1 := hx3.cell 1 rfl
        have x2 := hx3.cell 2 rfl
        have x3 := hx3.cell 3 rfl
        have hil : i < l.length := by have := HL.out; omega
        have hO3 := HO3.out
        rw [List.drop_eq_getElem_cons hil] at hO3
        have hlen3 := hO3.len
        obtain ⟨b', hab, hb', g0, g1, g2, g3, hfz⟩ := hO3.at (i := i) (by omega)
        injection hab with hab
        injection hab with e1
        subst e1
        have fz0 := hfz (i * 4)
        have fz1 := hfz (i * 4 + 1)
        have fz2 := hfz (i * 4 + 2)
        have fz3 := hfz (i * 4 + 3)
        have hput := hO3.put x
        rw [HI.out] at hput
        have HO4 : Hid (OwnU ((((w3.setCell ⟨g, i * 4, none⟩ (.string x.u.id)).setCell ⟨g, i * 4 + 1, none⟩ (.int .i64 x.u.want)).setCell ⟨g, i * 4 + 2, none⟩ (.slice x.a x.n x.c)).setCell ⟨g, i * 4 + 3, none⟩ (.bool x.u.done)) base (some ⟨g, 0, none⟩) n C (keptE id (l.take (j + 1)) ++ l.drop (i + 1)) ∧ w.grownBy ((((w3.setCell ⟨g, i * 4, none⟩ (.string x.u.id)).setCell ⟨g, i * 4 + 1, none⟩ (.int .i64 x.u.want)).setCell ⟨g, i * 4 + 2, none⟩ (.slice x.a x.n x.c)).setCell ⟨g, i * 4 + 3, none⟩ (.bool x.u.done)) (some g)) := by
          refine ⟨?_, World.grownBy.trans HG3.out hput.2⟩
          rw [HN2.out, List.append_assoc]
          exact hput.1
        clear hput hO3 hfz hx3
        obtain ⟨y, hy⟩ : ∃ y, (keptE id (l.take j) ++ l[i] :: l.drop (i + 1))[i]'(by omega) = y := ⟨_, rfl⟩
        rw [hy] at g0 g1 g2 g3
        clear hy hlen3
        go_wp2_with fail
        go_roundw
        case rel => exact ⟨i + 1, j + 1, by go_num, by go_num, by omega, by omega, by rw [HN2.out, List.length_append, HI.out]; rfl, HO4.out.1, HO4.out.2⟩
        case measure => simp [intOf]; omega
    · have hjn2 : j = n := by omega
      subst hjn2
      have HKp : Hid (keptE id l = keptE id (l.take j)) := by show _ = _; rw [List.take_of_length_le (by have := HL.out; omega)]
      obtain ⟨rest, hrow, _, _, _⟩ := HOr.out.row
      have hI := HI.out
      have hl := HL.out
      obtain ⟨w4, Z, hcl, hrow4, hg4⟩ := clearU_run wr 147 0 Tryz.underlying147 g C (i * 4) (j - i) (C - i) (ueCells (keptE id (l.take j))) (ueCells (l.drop i)) rest (by rw [← ueCells_append]; exact hrow) (by rw [ueCells_len, List.length_drop, hl]) (by rw [ueCells_len, hI]) (by omega)
      have HR : Hid (OwnU w4 base (some ⟨g, 0, none⟩) i C (keptE id l) ∧ w.grownBy w4 (some g)) := by
        refine ⟨?_, World.grownBy.trans HG.out hg4⟩
        rw [HKp.out]
        exact RowU.own hrow4 hbg hCm hI
      have HLn : Hid ((keptE id l).length = i) := by show _ = _; rw [HKp.out]; exact hI
      have t1 : ¬ C = i := by omega
      have t2 : (i : Int) ≤ (j : Int) := by omega
      have t3 : (i : Int) ≤ (C : Int) := by omega
      clear hrow hrow4 hg4 hI hl hkc
      go_wp2_with fail
      go_ret
      exact ⟨by rw [HLn.out]; rfl, by rw [HLn.out]; exact HR.out.1, HR.out.2⟩

set_option maxRecDepth 10000 in
set_option maxHeartbeats 800000 in
theorem implWithoutU_any (base g n C : Nat) (l : List UE) (id : ByteArray) (K : Nat) (w : World) (ho : OwnU w base (some ⟨g, 0, none⟩) n C l) (hn : n ≤ 1048576) (hKn : K < l.length) (hkp : ∀ j (hj : j < l.length), j < K → (l[j]).u.id ≠ id) (hkK : (l[K]).u.id = id) :
    Calls Tryz.prog 168 #[.slice (some ⟨g, 0, none⟩) n C, .string id] w fun e w' => e = .returned (.slice (some ⟨g, 0, none⟩) (keptE id l).length C) ∧ OwnU w' base (some ⟨g, 0, none⟩) (keptE id l).length C (keptE id l) ∧ w.grownBy w' (some g) := by
  have HB : Hid (Below w.heap.size w (w.alloc (.cells #[.string id] 9))) := (Below.refl _ _).alloc (Nat.le_refl _) _
  have hx : (w.alloc (.cells #[.string id] 9)).cell? ⟨w.heap.size, 0, none⟩ = some (.string id) := by rw [cell_of_row _ _ _ _ _ _ (heap_alloc_new w _)]; rfl
  have hgl : g < w.heap.size := (ho.lt g rfl).2
  have HD : Hid (Calls Tryz.prog 171 #[.slice (some ⟨g, 0, none⟩) n C, .func (.func 172) #[] #[.pointer (some ⟨w.heap.size, 0, none⟩)]] (w.alloc (.cells #[.string id] 9)) fun e w' => e = .returned (.slice (some ⟨g, 0, none⟩) (keptE id l).length C) ∧ OwnU w' base (some ⟨g, 0, none⟩) (keptE id l).length C (keptE id l) ∧ (w.alloc (.cells #[.string id] 9)).grownBy w' (some g)) :=
    delU_any base g n C l id w.heap.size K _ (ho.below HB.out) hx (by omega) hn hKn hkp hkK
  clear ho hx hkp hkK
  generalize keptE id l = kl at *
  go_enter Tryz.func168, Tryz.ntmps168
  go_wp2_with fail
  refine HD.out.mono ?_
  rintro e w5 ⟨rfl, ho5, hg5⟩
  have HR : Hid (OwnU w5 base (some ⟨g, 0, none⟩) kl.length C kl ∧ w.grownBy w5 (some g)) := ⟨ho5, ⟨hg5.os.trans HB.out.os, hg5.tape.trans HB.out.tape, hg5.output.trans HB.out.output, Nat.le_trans HB.out.size hg5.size, fun j hj hne => (hg5.block j (Nat.lt_of_lt_of_le hj HB.out.size) hne).trans (HB.out.block j hj)⟩⟩
  clear ho5 hg5
  go_wp2_with fail
  go_ret
  exact ⟨rfl, HR.out.1, HR.out.2⟩

end Go.Proofs.YtogopmngbjkcjafGreatDoor

namespace Go.Proofs.YtogopmngbjkcjafGreatDoor
open Go.RowKit
set_option linter.unusedVariables false

/-- What is behind a record: the uploads that it makes, or it gave up. -/
def FoldAns (w : World) (base fb : Nat) (o : Option (List U)) (e : Ending) (w' : World) : Prop :=
  ((o = none ∧ Pan e) ∨ ∃ a n c l, e = .returned (.tuple #[]) ∧ o = some (l.map UE.u) ∧ n = l.length ∧ BoxN w' fb 152 [.slice a n c] ∧ UpRow w' base (.slice a n c) l) ∧ Below base w w'

set_option maxRecDepth 10000 in
set_option maxHeartbeats 800000 in
theorem begin_no (fb base : Nat) (a : Option Addr) (n c : Nat) (l : List UE) (e q k : Int) (id : ByteArray) (rn : Int) (ra : Option Addr) (d ca : Nat) (w : World) (hf : BoxN w fb 152 [.slice a n c]) (h : UpRow w base (.slice a n c) l) (hn : n = l.length) (hl : n ≤ 1099511627776) (he : ErrN w) (hno : ¬ (atU (l.map UE.u) id = none ∧ n < 10)) :
    Calls Tryz.prog 154 #[.pointer (some ⟨fb, 0, none⟩), .agg #[.int .i64 e, .int .i64 q, .int .i64 k, .string id, .int .i64 rn, .slice ra d ca]] w fun e w' => Pan e ∧ Below w.heap.size w w' := by
  obtain ⟨w0, hw0⟩ : ∃ w0, w.alloc (.cells #[.int .i64 e, .int .i64 q, .int .i64 k, .string id, .int .i64 rn, .slice ra d ca] 90) = w0 := ⟨_, rfl⟩
  have HE : Hid (w.alloc (.cells #[.int .i64 e, .int .i64 q, .int .i64 k, .string id, .int .i64 rn, .slice ra d ca] 90) = w0) := hw0
  have HQ : Hid (BoxN w0 w.heap.size 90 [.int .i64 e, .int .i64 q, .int .i64 k, .string id, .int .i64 rn, .slice ra d ca]) := by show BoxN _ _ _ _; rw [← hw0]; exact BoxN.new _ _ _
  have HB : Hid (Below w.heap.size w w0) := by show Below _ _ _; rw [← hw0]; exact (Below.refl _ _).alloc (Nat.le_refl _) _
  have HX : Hid (∀ W, Below w0.heap.size w0 W → BoxN W fb 152 [.slice a n c] ∧ UpRow W base (.slice a n c) l ∧ ErrN W ∧ Below w.heap.size w W ∧ BoxN W w.heap.size 90 [.int .i64 e, .int .i64 q, .int .i64 k, .string id, .int .i64 rn, .slice ra d ca]) := fun W hb => ⟨(hf.stays HB.out).stays hb, (h.stays HB.out).stays hb, (he.below HB.out).below hb, HB.out.trans (hb.mono HB.out.size), HQ.out.stays hb⟩
  have HN : Hid (n = l.length) := hn
  have hfl : fb < w0.heap.size := (HX.out w0 (Below.refl _ _)).1.lt
  have hrl : w.heap.size < w0.heap.size := HQ.out.lt
  have f0 : ∀ P : Past w0, P.world.cell? ⟨fb, 0, none⟩ = some (.slice a n c) := fun P => (HX.out _ P.below).1.cell 0 rfl
  have r3 : ∀ P : Past w0, P.world.cell? ⟨w.heap.size, 3, none⟩ = some (.string id) := fun P => (HX.out _ P.below).2.2.2.2.cell 3 rfl
  have hne := past_some w0
  have HRe : Hid (∀ P : Past w0, Calls Tryz.prog 113 #[.slice a n c, .string id] P.world fun e w' => e = .returned (.pointer (reachUO a (atU (l.map UE.u) id))) ∧ Below P.world.heap.size P.world w') := fun P => implReachU_any a n c base id l P.world (HX.out _ P.below).2.1 HN.out hl
  clear hw0 hf h hn he HQ HB
  cases hk : atU (l.map UE.u) id with
  | none =>
    rw [hk, reachUO_none] at HRe
    have hn10 : ¬ n < 10 := fun h => hno ⟨hk, h⟩
    have d1 : decide ((n : Int) < 10) = false := by simp; omega
    clear hk hno
    go_enter Tryz.func154, Tryz.ntmps154
    go_upto_region 1 with fail
    rw [HE.out]
    clear HE
    refine wp_region_past_tail 16 (by kernel_rfl) (by kernel_rfl) (fun ops HO => ?_)
    simp only [List.take_succ_cons, List.take_zero, List.drop_succ_cons, List.drop_zero]
    iterate 9 (quiet_step ((first | (go_at_call 113; with_reducible exact calls_past (HRe.out _)) | fail)))
    iterate 6 (refine quiet_do (by rw [HO.out]; kernel_rfl) (fun K hK => ?_); go_simp; (refine hK _ ?_; clear hK K))
    iterate 1 (quiet_step ((first | (go_at_call 113; with_reducible exact calls_past (HRe.out _)) | fail)))
    refine wpQuiet_nil ?_
    rintro _ ⟨z, rfl⟩
    go_wp2_with fail
    refine (mustFit_no _ (HX.out _ z.below).2.2.1).mono ?_
    rintro _ x2 ⟨⟨t, v, rfl⟩, rfl⟩
    go_wp2_with fail
    exact ⟨rfl, ⟨t, v, rfl⟩, (HX.out _ z.below).2.2.2.1⟩
  | some kk =>
    obtain ⟨g, hg⟩ : ∃ g, a = some ⟨g, 0, none⟩ := by
      obtain ⟨g, hg, _⟩ := (HX.out w0 (Below.refl _ _)).2.1.at HN.out (by simpa using (atU_is hk).1)
      exact ⟨g, hg⟩
    subst hg
    rw [hk] at HRe
    have HRe2 : Hid (∀ P : Past w0, Calls Tryz.prog 113 #[.slice (some ⟨g, 0, none⟩) n c, .string id] P.world fun e w' => e = .returned (.pointer (some ⟨g, kk * 4, none⟩)) ∧ Below P.world.heap.size P.world w') := HRe.out
    clear hk hno HRe
    go_enter Tryz.func154, Tryz.ntmps154
    go_upto_region 1 with fail
    rw [HE.out]
    clear HE
    refine wp_region_past_tail 16 (by kernel_rfl) (by kernel_rfl) (fun ops HO => ?_)
    simp only [List.take_succ_cons, List.take_zero, List.drop_succ_cons, List.drop_zero]
    iterate 9 (quiet_step ((first | (go_at_call 113; with_reducible exact calls_past (HRe2.out _)) | fail)))
    iterate 6 (refine quiet_past (by rw [HO.out]; kernel_rfl) ?_)
    iterate 1 (quiet_step ((first | (go_at_call 113; with_reducible exact calls_past (HRe.out _)) | fail)))
    refine wpQuiet_nil ?_
    rintro _ ⟨z, rfl⟩
    go_wp2_with fail
    refine (mustFit_no _ (HX.out _ z.below).2.2.1).mono ?_
    rintro _ x2 ⟨⟨t, v, rfl⟩, rfl⟩
    go_wp2_with fail
    exact ⟨rfl, ⟨t, v, rfl⟩, (HX.out _ z.below).2.2.2.1⟩

set_option maxRecDepth 10000 in
set_option maxHeartbeats 1600000 in
theorem begin_yes (fb base : Nat) (a : Option Addr) (n c : Nat) (l : List UE) (e q k : Int) (id : ByteArray) (rn : Int) (ra : Option Addr) (d ca : Nat) (w : World) (hf : BoxN w fb 152 [.slice a n c]) (h : UpRow w base (.slice a n c) l) (hn : n = l.length) (hl : n ≤ 1099511627776) (he : ErrN w) (hbase : base ≤ w.heap.size) (hfb : base ≤ fb) (hno : atU (l.map UE.u) id = none ∧ n < 10) :
    Calls Tryz.prog 154 #[.pointer (some ⟨fb, 0, none⟩), .agg #[.int .i64 e, .int .i64 q, .int .i64 k, .string id, .int .i64 rn, .slice ra d ca]] w fun e w' => (∃ a' c', e = .returned (.tuple #[]) ∧ BoxN w' fb 152 [.slice a' (n + 1) c'] ∧ UpRow w' base (.slice a' (n + 1) c') (l.take (lessU (l.map UE.u) id) ++ [⟨⟨id, rn, [], false⟩, none, 0, 0⟩] ++ l.drop (lessU (l.map UE.u) id))) ∧ Below base w w' := by
  obtain ⟨w0, hw0⟩ : ∃ w0, w.alloc (.cells #[.int .i64 e, .int .i64 q, .int .i64 k, .string id, .int .i64 rn, .slice ra d ca] 90) = w0 := ⟨_, rfl⟩
  have HE : Hid (w.alloc (.cells #[.int .i64 e, .int .i64 q, .int .i64 k, .string id, .int .i64 rn, .slice ra d ca] 90) = w0) := hw0
  have HQ : Hid (BoxN w0 w.heap.size 90 [.int .i64 e, .int .i64 q, .int .i64 k, .string id, .int .i64 rn, .slice ra d ca]) := by show BoxN _ _ _ _; rw [← hw0]; exact BoxN.new _ _ _
  have HB : Hid (Below w.heap.size w w0) := by show Below _ _ _; rw [← hw0]; exact (Below.refl _ _).alloc (Nat.le_refl _) _
  have HX : Hid (∀ W, Below w0.heap.size w0 W → BoxN W fb 152 [.slice a n c] ∧ UpRow W base (.slice a n c) l ∧ ErrN W ∧ Below w.heap.size w W ∧ BoxN W w.heap.size 90 [.int .i64 e, .int .i64 q, .int .i64 k, .string id, .int .i64 rn, .slice ra d ca]) := fun W hb => ⟨(hf.stays HB.out).stays hb, (h.stays HB.out).stays hb, (he.below HB.out).below hb, HB.out.trans (hb.mono HB.out.size), HQ.out.stays hb⟩
  have HN : Hid (n = l.length) := hn
  have hfl : fb < w0.heap.size := (HX.out w0 (Below.refl _ _)).1.lt
  have hrl : w.heap.size < w0.heap.size := HQ.out.lt
  have f0 : ∀ P : Past w0, P.world.cell? ⟨fb, 0, none⟩ = some (.slice a n c) := fun P => (HX.out _ P.below).1.cell 0 rfl
  have r3 : ∀ P : Past w0, P.world.cell? ⟨w.heap.size, 3, none⟩ = some (.string id) := fun P => (HX.out _ P.below).2.2.2.2.cell 3 rfl
  have hne := past_some w0
  have HRe : Hid (∀ P : Past w0, Calls Tryz.prog 113 #[.slice a n c, .string id] P.world fun e w' => e = .returned (.pointer (reachUO a (atU (l.map UE.u) id))) ∧ Below P.world.heap.size P.world w') := fun P => implReachU_any a n c base id l P.world (HX.out _ P.below).2.1 HN.out hl
  clear hw0 hf h hn he HQ HB
  have r4 : ∀ P : Past w0, P.world.cell? ⟨w.heap.size, 4, none⟩ = some (.int .i64 rn) := fun P => (HX.out _ P.below).2.2.2.2.cell 4 rfl
  rw [hno.1, reachUO_none] at HRe
  have d1 : decide ((n : Int) < 10) = true := by simp; omega
  have HMf : Hid (∀ P : Past w0, Calls Tryz.prog 158 #[.bool true] P.world fun e w' => e = .returned (.tuple #[]) ∧ Below P.world.heap.size P.world w') := fun P => (mustFit_yes _).mono (fun e w' h => ⟨h.1, by rw [h.2]; exact Below.refl _ _⟩)
  have hn10 : n ≤ 1048576 := by omega
  clear hno
  go_enter Tryz.func154, Tryz.ntmps154
  go_upto_region 1 with fail
  rw [HE.out]
  clear HE
  refine wp_region_pastO (by kernel_rfl) (by kernel_rfl) fun ops HO => ?_
  iterate 9 (quiet_step ((first | (go_at_call 113; with_reducible exact calls_past (HRe.out _)) | (go_at_call 158; with_reducible exact calls_past (HMf.out _)) | fail)))
  iterate 6 (refine quiet_do (by rw [HO.out]; kernel_rfl) (fun K hK => ?_); go_simp; (refine hK _ ?_; clear hK K))
  iterate 2 (quiet_step ((first | (go_at_call 113; with_reducible exact calls_past (HRe.out _)) | (go_at_call 158; with_reducible exact calls_past (HMf.out _)) | fail)))
  refine wpQuiet_nil ?_
  rintro _ ⟨z, rfl⟩
  have HBz : Hid (Below w0.heap.size w0 z.world) := z.below
  obtain ⟨W, hW⟩ : ∃ W, z.world = W := ⟨_, rfl⟩
  rw [hW] at HBz ⊢
  clear hW z ops HO f0 r3 r4 hne HRe HMf
  go_upto_region 2 with fail
  have f0 : ∀ P : Past W, P.world.cell? ⟨fb, 0, none⟩ = some (.slice a n c) := fun P => (HX.out _ (HBz.out.trans (P.below.mono HBz.out.size))).1.cell 0 rfl
  have r3 : ∀ P : Past W, P.world.cell? ⟨w.heap.size, 3, none⟩ = some (.string id) := fun P => (HX.out _ (HBz.out.trans (P.below.mono HBz.out.size))).2.2.2.2.cell 3 rfl
  have r4 : ∀ P : Past W, P.world.cell? ⟨w.heap.size, 4, none⟩ = some (.int .i64 rn) := fun P => (HX.out _ (HBz.out.trans (P.below.mono HBz.out.size))).2.2.2.2.cell 4 rfl
  have hne := past_some W
  refine wp_region_past_tail1 10 (by kernel_rfl) (by kernel_rfl) (by kernel_rfl) (by kernel_rfl) rfl rfl _ rfl (fun ops HO => ?_)
  simp only [List.take_succ_cons, List.take_zero, List.drop_succ_cons, List.drop_zero]
  iterate 9 (quiet_step ((first | fail)))
  refine wpQuiet_nil ?_
  rintro _ ⟨z, rfl⟩
  have HB2 : Hid (Below w0.heap.size w0 z.world) := HBz.out.trans (z.below.mono HBz.out.size)
  obtain ⟨W2, hW2⟩ : ∃ W2, z.world = W2 := ⟨_, rfl⟩
  rw [hW2] at HB2 ⊢
  clear hW2 z HBz f0 r3 r4 hne
  have hx := HX.out _ HB2.out
  have HOw : Hid (OwnU W2 base a n c l) := by
    have h := hx.2.1.1
    rw [← HN.out] at h
    exact h
  have HU2 : Hid (UpRow W2 base (.slice a n c) l) := hx.2.1
  have HF2 : Hid (BoxN W2 fb 152 [.slice a n c]) := hx.1
  have HBw : Hid (Below w.heap.size w W2) := hx.2.2.2.1
  have HBs : Hid (base ≤ W2.heap.size) := Nat.le_trans hbase hx.2.2.2.1.size
  clear hx
  have hcall := implWithU_any base a n c l ⟨⟨id, rn, [], false⟩, none, 0, 0⟩ W2 HOw.out hn10 HBs.out
  dsimp only at hcall
  have HC : Hid (Calls Tryz.prog 166 #[.slice a n c, .agg #[.string id, .int .i64 rn, .slice none 0 0, .bool false]] W2 fun e w' => ∃ A' C', e = .returned (.slice A' (n + 1) C') ∧ OwnU w' base A' (n + 1) C' (l.take (lessU (l.map UE.u) id) ++ [⟨⟨id, rn, [], false⟩, none, 0, 0⟩] ++ l.drop (lessU (l.map UE.u) id)) ∧ W2.grownBy w' (a.map (·.block))) := hcall
  clear hcall
  go_wp2_with fail
  refine HC.out.mono ?_
  rintro _ W3 ⟨A', C', rfl, ho3, hg3⟩
  have hlen := ho3.len
  have hF3 : BoxN W3 fb 152 [.slice a n c] := HF2.out.grown hg3 (fun e => HF2.out.noRow HU2.out.1 (by decide) (by rw [ownBlock_sU]; exact e))
  have hg3' : W2.grownBy W3 (Value.slice a n c).ownBlock := by rw [ownBlock_sU]; exact hg3
  have hU3 : UpRow W3 base (.slice A' (n + 1) C') (l.take (lessU (l.map UE.u) id) ++ [⟨⟨id, rn, [], false⟩, none, 0, 0⟩] ++ l.drop (lessU (l.map UE.u) id)) := by
    refine HU2.out.remade ?_ hg3' ?_ (upair_ins _ HU2.out.2.2 rfl)
    · rw [hlen]; exact ho3
    · intro x hx
      rcases List.mem_append.1 hx with hx | hx
      · rcases List.mem_append.1 hx with hx | hx
        · exact .inl (List.mem_of_mem_take hx)
        · obtain rfl : x = ⟨⟨id, rn, [], false⟩, none, 0, 0⟩ := by simpa using hx
          exact .inr ⟨rfl, rfl, rfl, rfl⟩
      · exact .inl (List.mem_of_mem_drop hx)
  have f3 := hF3.cell 0 rfl
  have z3 := hF3.frozen 0
  have HR : Hid (BoxN (W3.setCell ⟨fb, 0, none⟩ (.slice A' (n + 1) C')) fb 152 [.slice A' (n + 1) C'] ∧ UpRow (W3.setCell ⟨fb, 0, none⟩ (.slice A' (n + 1) C')) base (.slice A' (n + 1) C') (l.take (lessU (l.map UE.u) id) ++ [⟨⟨id, rn, [], false⟩, none, 0, 0⟩] ++ l.drop (lessU (l.map UE.u) id)) ∧ Below base w (W3.setCell ⟨fb, 0, none⟩ (.slice A' (n + 1) C'))) := by
    refine ⟨hF3.set 0 _, hU3.setBox hF3 (by decide) (by decide), ?_⟩
    have h1 : Below base w W2 := HBw.out.mono hbase
    have h2 := h1.grown hg3' HBs.out (fun q hq => (HU2.out.lts.1 q hq).1)
    exact h2.setCell (by dsimp only; omega) _
  clear ho3 hg3 hg3' hlen hF3 hU3
  go_wp2_with fail
  go_end0
  exact ⟨⟨A', C', rfl, HR.out.1, HR.out.2.1⟩, HR.out.2.2⟩

end Go.Proofs.YtogopmngbjkcjafGreatDoor

namespace Go.Proofs.YtogopmngbjkcjafGreatDoor
open Go.RowKit
set_option linter.unusedVariables false

/-- Whether so many bytes may stand from off on. -/
def fitB (u : U) (off : Int) (d : Nat) : Bool := !u.done && decide (off = (u.zs.length : Int)) && decide ((d : Int) ≤ u.want - off)

/-- What is there is no more than is wanted; what is wanted is a number of the machine's. -/
def UFit (u : U) : Prop := (-9223372036854775808 ≤ u.want ∧ u.want ≤ 9223372036854775807) ∧ ((u.zs.length : Int) ≤ u.want ∨ u.zs = [])

set_option maxRecDepth 10000 in
set_option maxHeartbeats 800000 in
theorem implFits_any (g o : Nat) (u : U) (a : Option Addr) (n c : Nat) (off : Int) (da : Option Addr) (d dc : Nat) (w : World) (h1 : w.cell? ⟨g, o + 1, none⟩ = some (.int .i64 u.want)) (h2 : w.cell? ⟨g, o + 2, none⟩ = some (.slice a n c)) (h3 : w.cell? ⟨g, o + 3, none⟩ = some (.bool u.done)) (hn : u.zs.length = n) (hf : UFit u) (hl : n ≤ 1099511627776) (hd : d ≤ 1099511627776) :
    Calls Tryz.prog 103 #[.pointer (some ⟨g, o, none⟩), .int .i64 off, .slice da d dc] w fun e w' => e = .returned (.bool (fitB u off d)) ∧ w' = w := by
  cases hdn : u.done with
  | true =>
    rw [hdn] at h3
    have HF : Hid (fitB u off d = false) := by show _ = _; rw [fitB, hdn]; rfl
    clear hdn hn hf
    go_enter Tryz.func103, Tryz.ntmps103
    go_wp2_with fail
    go_ret
    exact ⟨by rw [HF.out]; rfl, rfl⟩
  | false =>
    rw [hdn] at h3
    by_cases ho : off = (n : Int)
    case neg =>
      have HF : Hid (fitB u off d = false) := by show _ = _; rw [fitB, decide_eq_false (by omega)]; simp
      have e1 : (off == (n : Int)) = false := by simpa using ho
      clear hdn hn hf
      go_enter Tryz.func103, Tryz.ntmps103
      go_wp2_with fail
      go_ret
      exact ⟨by rw [HF.out]; rfl, rfl⟩
    have hw : IntKind.i64.wrap (u.want - off) = u.want - off := by
      obtain ⟨⟨w1, w2⟩, w3⟩ := hf
      have hz : u.zs = [] → n = 0 := fun h => by rw [← hn, h]; rfl
      rw [IntKind.wrap_i64]
      rcases w3 with w3 | w3
      · omega
      · have := hz w3; omega
    have HF : Hid (fitB u off d = decide ((d : Int) ≤ u.want - off)) := by show _ = _; rw [fitB, hdn, decide_eq_true (by omega)]; simp
    have e1 : (off == (n : Int)) = true := by simpa using ho
    subst ho
    clear hdn hn hf
    obtain ⟨t, ht⟩ : ∃ t, u.want - (n : Int) = t := ⟨_, rfl⟩
    rw [ht] at HF hw
    have hw2 : IntKind.i64.wrap (u.want - (n : Int)) = t := by rw [ht]; exact hw
    go_enter Tryz.func103, Tryz.ntmps103
    go_wp2_with fail
    go_ret
    exact ⟨by rw [HF.out]; rfl, rfl⟩

end Go.Proofs.YtogopmngbjkcjafGreatDoor
