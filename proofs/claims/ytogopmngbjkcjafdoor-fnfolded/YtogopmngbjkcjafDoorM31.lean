/- The library's Insert of one upload into a row of the call's own. Uploads that rise: where one is put, which one is gone, said as the program goes; no program in it. What the program's with answers: an upload more, at its place. An upload written into a row. No program in it but its table of types. The library's DeleteFunc of uploads of one name, in a row of the call's own; the program's without. -/
import Derived.Test.YtogopmngbjkcjafDoorM04
import Derived.Lib.Overlaps
import Derived.Laws.Externs
import Derived.Deep.RegionWith
import Derived.Deep.CutBlock
import Derived.Test.YtogopmngbjkcjafDoorM08
import Derived.Lib.Strings
import Derived.Test.YtogopmngbjkcjafDoorM11
import Derived.Test.YtogopmngbjkcjafDoorM23
import Derived.Test.YtogopmngbjkcjafDoorM05
import Derived.Shelf.Abstract
namespace Go.Proofs.YtogopmngbjkcjafDoor
open Go.RowKit
set_option linter.unusedVariables false

theorem up_cell {w : World} {vb : Nat} {x : UE} (hv : w.heap[vb]? = some (.cells #[.string x.u.id, .int .i64 x.u.want, .slice x.a x.n x.c, .bool x.u.done] 30 (0, 0))) : ∀ j v, (ueCells [x])[j]? = some v → w.cell? ((⟨vb, 0, none⟩ : Addr).add j) = some v := by
  intro j v hj
  have hlt : j < 4 := by
    have := (List.getElem?_eq_some_iff.1 hj).1
    rw [ueCells_len] at this
    simpa using this
  rw [Addr.add_lit, cell_of_row _ _ _ _ _ _ hv]
  have : j = 0 ∨ j = 1 ∨ j = 2 ∨ j = 3 := by omega
  rcases this with rfl | rfl | rfl | rfl <;> simpa [ueCells, UE.cells] using hj

theorem up_src {w : World} {vb : Nat} {x : UE} (hv : w.heap[vb]? = some (.cells #[.string x.u.id, .int .i64 x.u.want, .slice x.a x.n x.c, .bool x.u.done] 30 (0, 0))) : Src Tryd.prog 4 26 (.slice (some ⟨vb, 0, none⟩) 1 1) 1 (ueCells [x]) w :=
  Src.ofSlice _ Tryd.underlying26 ⟨vb, 0, none⟩ 1 1 _ (by rw [ueCells_len]; rfl) (up_cell hv) (ueCells_one [x])

/-- Where a row that is not empty lies. -/
theorem OwnU.addr' {w : World} {base n cap : Nat} {a : Option Addr} {l : List UE} (h : OwnU w base a n cap l) (hn : 0 < n) : ∃ g, a = some ⟨g, 0, none⟩ := by
  rcases h.2 with ⟨_, h0⟩ | ⟨g, cap', cur, he, _⟩
  · omega
  · injection he with e1 _ _
    exact ⟨g, e1⟩

set_option maxRecDepth 10000 in
/-- An append of zeros onto the first uploads of a row that has no room for them: a new row. -/
theorem growZU_run (w : World) (t tn ty : TypeId) (kn : IntKind) (ht : Tryd.prog.underlying t = some (.slice 30)) (htn : Tryd.prog.underlying tn = some (.int kn)) (base g n C i k : Nat) (l : List UE) (hown : OwnU w base (some ⟨g, 0, none⟩) n C l)
    (hi : i ≤ n) (hk : 0 < k) (hC : C < i + k) (hb : i + k ≤ 2097152) :
    ∃ G Z W1, (Builtin.append_ #[t, tn] ty #[.slice (some ⟨g, 0, none⟩) i C, .int .i64 k]).run Tryd.prog w = .ok (.slice (some ⟨w.heap.size, 0, none⟩) (i + k) G) W1 ∧ RowU W1 w.heap.size G (ueCells (l.take i) ++ Z) ∧ i + k ≤ G ∧ G ≤ maxLen ∧ w.grownBy W1 none := by
  obtain ⟨i0, hi0, hz0, hz1, hz2⟩ := info_parts info_up
  have hln := hown.len
  have hT : (ueCells (l.take i)).length = i * 4 := by rw [ueCells_len, List.length_take]; omega
  have holds : ∀ j u, (ueCells (l.take i))[j]? = some u → w.cell? ((⟨g, 0, none⟩ : Addr).add j) = some u := hown.src0 i
  have hold := run_firstCells_some (P := Tryd.prog) w.drew i0.size i ⟨g, 0, none⟩ i C (ueCells (l.take i)) (by rw [hT, hz1]) (by simpa using holds)
  have hr := Lib.run_append_grow_zeros (P := Tryd.prog) w t tn ty 30 i0 _ .i64 kn ht htn hi0 hz0 (some ⟨g, 0, none⟩) i C (ueCells (l.take i)) hold k hk (by rw [hz1]; decide) hC (by omega) (by rw [hz2]; omega) (growslice_fits hC (by rw [hz2]; omega))
  have hge := grownCap_ge w (i + k) C 30
  have hcm : grownCap w (i + k) C 30 ≤ maxLen := grownCap_le_maxLen w (i + k) C _ (by unfold maxLen; omega)
  refine ⟨_, (Builtin.zeroCells (Value.agg #[.string ⟨#[]⟩, .int .i64 0, .slice none 0 0, .bool false]).cells k).toList ++ (Builtin.zeroCells (Value.agg #[.string ⟨#[]⟩, .int .i64 0, .slice none 0 0, .bool false]).cells (grownCap w (i + k) C 30 - (i + k))).toList, _, hr, ⟨?_, ?_⟩, hge, hcm, ⟨rfl, rfl, rfl, by simp, fun k hk _ => heap_alloc_old w.drew _ hk⟩⟩
  · refine (heap_alloc_new w.drew _).trans ?_
    congr 2
    apply Array.ext'
    simp
  · simp only [List.length_append, hT, Array.length_toList, size_zeroCells]
    have e4 : (Value.agg #[.string ⟨#[]⟩, .int .i64 0, .slice none 0 0, .bool false]).cells.size = 4 := rfl
    rw [e4]
    omega

set_option maxRecDepth 10000 in
set_option maxHeartbeats 1600000 in
theorem insEndU_any (base : Nat) (A : Option Addr) (n C : Nat) (l : List UE) (vb : Nat) (x : UE) (w : World) (ho : OwnU w base A n C l) (hv : w.heap[vb]? = some (.cells #[.string x.u.id, .int .i64 x.u.want, .slice x.a x.n x.c, .bool x.u.done] 30 (0, 0))) (hn : n ≤ 1048576) (hb : base ≤ w.heap.size) :
    Calls Tryd.prog 64 #[.slice A n C, .int .i64 n, .slice (some ⟨vb, 0, none⟩) 1 1] w fun e w' => ∃ A' C', e = .returned (.slice A' (n + 1) C') ∧ OwnU w' base A' (n + 1) C' (l ++ [x]) ∧ w.grownBy w' (A.map (·.block)) := by
  obtain ⟨A', C', w', hr, ho', hg'⟩ := appU_run w base 45 26 45 Tryd.underlying45 A n C l ho _ 1 [x] (up_src hv) (by omega) (by omega) hb
  have HG : Hid (OwnU w' base A' (n + 1) C' (l ++ [x]) ∧ w.grownBy w' (A.map (·.block))) := ⟨ho', hg'⟩
  clear ho' hg'
  go_enter Tryd.func64, Tryd.ntmps64
  go_wp2_with (at_builtin; refine Lib.wpList_append_run _ rfl _ _ _ _ rfl _ _ rfl rfl _ _ hr ?_)
  all_goals
    go_ret
    exact ⟨_, _, rfl, HG.out.1, HG.out.2⟩

set_option maxRecDepth 10000 in
set_option maxHeartbeats 1600000 in
theorem insRoomU_any (base g n C i : Nat) (l : List UE) (vb : Nat) (x : UE) (w : World) (ho : OwnU w base (some ⟨g, 0, none⟩) n C l) (hv : w.heap[vb]? = some (.cells #[.string x.u.id, .int .i64 x.u.want, .slice x.a x.n x.c, .bool x.u.done] 30 (0, 0))) (hne : vb ≠ g) (hi : i < n) (hn : n ≤ 1048576) (hroom : n + 1 ≤ C) :
    Calls Tryd.prog 64 #[.slice (some ⟨g, 0, none⟩) n C, .int .i64 i, .slice (some ⟨vb, 0, none⟩) 1 1] w fun e w' => ∃ A' C', e = .returned (.slice A' (n + 1) C') ∧ OwnU w' base A' (n + 1) C' (l.take i ++ [x] ++ l.drop i) ∧ w.grownBy w' (some g) := by
  obtain ⟨rest, hrow, hbg, hnC, hCm⟩ := ho.row
  have hln := ho.len
  have hov : ∀ lb cb, (callFunc 68 #[.slice (some ⟨vb, 0, none⟩) 1 1, .slice (some ⟨g, (i + 1) * 4, none⟩) lb cb]).run Tryd.prog w = .ok (.value (.bool false)) w := fun lb cb => by
    rw [run_callFunc_extern Tryd.func68 (by kernel_rfl) (by kernel_rfl) (by kernel_rfl) (e := Extern.SlicesOverlaps.overlaps #[26, 26] #[4]) (by kernel_rfl),
      Lib.run_overlaps_apart w 26 4 30 Tryd.underlying26 4 (fun w => by kernel_rfl) ⟨vb, 0, none⟩ ⟨g, (i + 1) * 4, none⟩ 1 1 lb cb hne 30 30 4 (C * 4) (by simp [World.shape?, hv]) (by have h2 := hrow.2; rw [List.length_append] at h2; simp [World.shape?, hrow.1]; exact h2) (by omega) (by simp [World.frozen?, hv]) (by simp [World.frozen?, hv])]
    rfl
  obtain ⟨cs, hcs⟩ : ∃ cs, ueCells l ++ rest = cs := ⟨_, rfl⟩
  have hPd : ueCells (l.take i) ++ ueCells (l.drop i) = ueCells l := by rw [← ueCells_append, List.take_append_drop]
  have hPl : (ueCells (l.take i)).length = i * 4 := by rw [ueCells_len, List.length_take]; omega
  have hDl : (l.drop i).length = n - i := by rw [List.length_drop]; omega
  have hDc : (ueCells (l.drop i)).length = (n - i) * 4 := by rw [ueCells_len, hDl]
  have hcl : cs.length = C * 4 := by rw [← hcs]; exact hrow.2
  have hct : cs.take (i * 4) = ueCells (l.take i) := by rw [← hcs, ← hPd, List.append_assoc, ← hPl, List.take_left]
  rw [hcs] at hrow
  have hsplit : cs = cs.take ((i + 1) * 4) ++ (cs.drop ((i + 1) * 4)).take ((n - i) * 4) ++ cs.drop ((n + 1) * 4) := by
    have e : cs.drop ((n + 1) * 4) = (cs.drop ((i + 1) * 4)).drop ((n - i) * 4) := by rw [List.drop_drop]; congr 1; omega
    rw [e, List.append_assoc, List.take_append_drop, List.take_append_drop]
  obtain ⟨w2, hr2, hrow2, hg2⟩ := copyU_run w.drew 45 45 3 Tryd.underlying45 g C ((i + 1) * 4) (n - i) (C - (i + 1)) (cs.take ((i + 1) * 4)) ((cs.drop ((i + 1) * 4)).take ((n - i) * 4)) (cs.drop ((n + 1) * 4)) ⟨g, i * 4, none⟩ (n + 1 - i) (C - i) (l.drop i)
    (by rw [← hsplit]; exact hrow) (by rw [List.length_take, List.length_drop, hDl]; omega) (by rw [List.length_take]; omega) (by rw [hDl]; simp only [Nat.min_def]; split <;> omega)
    ((ho.below (Below.refl _ _).drew).src i)
  have hsplit2 : cs.take ((i + 1) * 4) = ueCells (l.take i) ++ (cs.take ((i + 1) * 4)).drop (i * 4) := by
    have e : ueCells (l.take i) = (cs.take ((i + 1) * 4)).take (i * 4) := by rw [List.take_take, Nat.min_eq_left (by omega), hct]
    rw [e, List.take_append_drop]
  have hv2 : w2.heap[vb]? = some (.cells #[.string x.u.id, .int .i64 x.u.want, .slice x.a x.n x.c, .bool x.u.done] 30 (0, 0)) := (hg2.block vb (Array.getElem?_eq_some_iff.1 (show w.drew.heap[vb]? = _ from hv)).1 (by simpa using hne)).trans hv
  have hvl : ∀ j v, (ueCells [x])[j]? = some v → w2.cell? ((⟨vb, 0, none⟩ : Addr).add j) = some v := up_cell hv2
  obtain ⟨w3, hr3, hrow3, hg3⟩ := copyU_run w2 45 26 3 Tryd.underlying45 g C (i * 4) (n + 1 - i) (C - i) (ueCells (l.take i)) ((cs.take ((i + 1) * 4)).drop (i * 4)) (ueCells (l.drop i) ++ cs.drop ((n + 1) * 4)) ⟨vb, 0, none⟩ 1 1 [x]
    (by rw [← hsplit2, ← List.append_assoc]; exact hrow2) (by rw [List.length_drop, List.length_take]; simp only [List.length_cons, List.length_nil]; omega) hPl (by simp only [List.length_cons, List.length_nil, Nat.min_def]; split <;> omega) hvl
  have HR : Hid (OwnU w3 base (some ⟨g, 0, none⟩) (n + 1) C (l.take i ++ [x] ++ l.drop i) ∧ w.grownBy w3 (some g)) := by
    refine ⟨RowU.own (rest := cs.drop ((n + 1) * 4)) (by rw [ueCells_append, ueCells_append, List.append_assoc]; rw [List.append_assoc] at hrow3; simpa using hrow3) hbg hCm (by simp; omega), ?_⟩
    · have h1 : w.grownBy w2 (some g) := ⟨hg2.os, hg2.tape, hg2.output, hg2.size, hg2.block⟩
      exact World.grownBy.trans h1 hg3
  clear hrow hrow2 hrow3 hsplit hsplit2 hv hv2 hvl hg2 hg3 ho hcs hct hcl hPd hPl hDl hDc
  have hz2 : ¬ ((i : Int) = (n : Int)) := by omega
  have hw1 : IntKind.i64.wrap ((i : Int) + 1) = (i : Int) + 1 := by rw [IntKind.wrap_i64]; omega
  have t1 : (0 : Int) ≤ (i : Int) + 1 := by omega
  have t3 : ((i : Int) + 1).toNat = i + 1 := by omega
  have t4 : ¬ C = i + 1 := by omega
  have t5 : ¬ C = i := by omega
  have t6 : (i : Int) + 1 ≤ (n : Int) + 1 := by omega
  have t7 : (i : Int) ≤ (n : Int) + 1 := by omega
  go_enter Tryd.func64, Tryd.ntmps64
  go_wp2_with (simp only [hov])
  go_region_with (fail)
  all_goals
    go_wp2_with fail
    go_ret
    exact ⟨_, _, rfl, HR.out.1, HR.out.2⟩

set_option maxRecDepth 10000 in
set_option maxHeartbeats 1600000 in
theorem insGrowU_any (base g n C i : Nat) (l : List UE) (vb : Nat) (x : UE) (w : World) (ho : OwnU w base (some ⟨g, 0, none⟩) n C l) (hv : w.heap[vb]? = some (.cells #[.string x.u.id, .int .i64 x.u.want, .slice x.a x.n x.c, .bool x.u.done] 30 (0, 0))) (hi : i < n) (hn : n ≤ 1048576) (hroom : C < n + 1) (hb : base ≤ w.heap.size) :
    Calls Tryd.prog 64 #[.slice (some ⟨g, 0, none⟩) n C, .int .i64 i, .slice (some ⟨vb, 0, none⟩) 1 1] w fun e w' => ∃ A' C', e = .returned (.slice A' (n + 1) C') ∧ OwnU w' base A' (n + 1) C' (l.take i ++ [x] ++ l.drop i) ∧ w.grownBy w' (some g) := by
  have hnC : n ≤ C := by obtain ⟨_, _, _, h, _⟩ := ho.row; exact h
  have hln := ho.len
  have hglt : g < w.heap.size := (ho.lt g rfl).2
  have hvlt : vb < w.heap.size := (Array.getElem?_eq_some_iff.1 hv).1
  obtain ⟨G, Z, W1, hr1, hrow1, hG, hGm, hg1⟩ := growZU_run w 45 3 45 .i64 Tryd.underlying45 Tryd.underlying3 base g n C i (n + 1 - i) l ho (by omega) (by omega) (by omega) (by omega)
  have hik : i + (n + 1 - i) = n + 1 := by omega
  have hkk : ((n + 1 - i : Nat) : Int) = (n : Int) + 1 - (i : Int) := by omega
  rw [hik] at hr1 hG
  rw [hkk] at hr1
  have hPl : (ueCells (l.take i)).length = i * 4 := by rw [ueCells_len, List.length_take]; omega
  have hDl : (l.drop i).length = n - i := by rw [List.length_drop]; omega
  have hDc : (ueCells (l.drop i)).length = (n - i) * 4 := by rw [ueCells_len, hDl]
  have hZl : Z.length = (G - i) * 4 := by have := hrow1.2; rw [List.length_append, hPl] at this; omega
  have hv1 : W1.heap[vb]? = some (.cells #[.string x.u.id, .int .i64 x.u.want, .slice x.a x.n x.c, .bool x.u.done] 30 (0, 0)) := (hg1.block vb hvlt (by simp)).trans hv
  have hvl : ∀ j v, (ueCells [x])[j]? = some v → W1.cell? ((⟨vb, 0, none⟩ : Addr).add j) = some v := up_cell hv1
  obtain ⟨w2, hr2, hrow2, hg2⟩ := copyU_run W1 45 26 3 Tryd.underlying45 w.heap.size G (i * 4) (n + 1 - i) (G - i) (ueCells (l.take i)) (Z.take 4) (Z.drop 4) ⟨vb, 0, none⟩ 1 1 [x]
    (by rw [List.append_assoc, List.take_append_drop]; exact hrow1) (by rw [List.length_take]; simp only [List.length_cons, List.length_nil]; omega) hPl (by simp only [List.length_cons, List.length_nil, Nat.min_def]; split <;> omega) hvl
  have hg12 : w.grownBy w2 none := World.grownBy.andThen hg1 hg2 (fun j e => .inl (by injection e with e; omega))
  have hls : OwnU w2 base (some ⟨g, 0, none⟩) n C l := ho.kept hg12 (fun k e => by cases e)
  obtain ⟨w3, hr3, hrow3, hg3⟩ := copyU_run w2.drew 45 45 3 Tryd.underlying45 w.heap.size G ((i + 1) * 4) (n - i) (G - (i + 1)) (ueCells (l.take i) ++ ueCells [x]) ((Z.drop 4).take ((n - i) * 4)) ((Z.drop 4).drop ((n - i) * 4)) ⟨g, i * 4, none⟩ (n - i) (C - i) (l.drop i)
    (by rw [List.append_assoc _ ((Z.drop 4).take _), List.take_append_drop]; exact hrow2) (by rw [List.length_take, List.length_drop, hDl]; omega) (by rw [List.length_append, hPl, ueCells_len]; simp only [List.length_cons, List.length_nil]; omega) (by rw [hDl]; simp)
    ((hls.below (Below.refl _ _).drew).src i)
  have HR : Hid (OwnU w3 base (some ⟨w.heap.size, 0, none⟩) (n + 1) G (l.take i ++ [x] ++ l.drop i) ∧ w.grownBy w3 (some g)) := by
    refine ⟨RowU.own (rest := (Z.drop 4).drop ((n - i) * 4)) (by rw [ueCells_append, ueCells_append]; exact hrow3) hb hGm (by simp; omega), ?_⟩
    · have h2 : w2.grownBy w3 (some w.heap.size) := ⟨hg3.os, hg3.tape, hg3.output, hg3.size, hg3.block⟩
      have h3 : w.grownBy w3 none := World.grownBy.andThen hg12 h2 (fun j e => .inl (by injection e with e; omega))
      exact ⟨h3.os, h3.tape, h3.output, h3.size, fun k hk _ => h3.block k hk (by simp)⟩
  clear hrow1 hrow2 hrow3 hv hv1 hvl hg1 hg2 hg3 hg12 hls ho hPl hDl hDc hZl hkk hik
  have hz2 : ¬ ((i : Int) = (n : Int)) := by omega
  have hz3 : (C : Int) < (n : Int) + 1 := by omega
  have hw1 : IntKind.i64.wrap ((i : Int) + 1) = (i : Int) + 1 := by rw [IntKind.wrap_i64]; omega
  have hw2 : IntKind.i64.wrap ((n : Int) + 1) = (n : Int) + 1 := by rw [IntKind.wrap_i64]; omega
  have hw3 : IntKind.i64.wrap ((n : Int) + 1 - (i : Int)) = (n : Int) + 1 - (i : Int) := by rw [IntKind.wrap_i64]; omega
  have t1 : (0 : Int) ≤ (i : Int) + 1 := by omega
  have t3 : ((i : Int) + 1).toNat = i + 1 := by omega
  have t4 : ¬ G = i + 1 := by omega
  have t5 : ¬ G = i := by omega
  have t6 : (i : Int) + 1 ≤ (n : Int) + 1 := by omega
  have t7 : (i : Int) ≤ (n : Int) + 1 := by omega
  have t8 : ¬ C = i := by omega
  go_enter Tryd.func64, Tryd.ntmps64
  go_wp2_with (at_builtin; refine Lib.wpList_append_run _ rfl _ _ _ _ rfl _ _ rfl rfl _ _ hr1 ?_)
  go_region_with (fail)
  all_goals
    go_wp2_with fail
    go_ret
    exact ⟨_, _, rfl, HR.out.1, HR.out.2⟩

/-- One lane is put into a row of the call's own, at a place. -/
theorem insU_any (base : Nat) (A : Option Addr) (n C i : Nat) (l : List UE) (vb : Nat) (x : UE) (w : World) (ho : OwnU w base A n C l) (hv : w.heap[vb]? = some (.cells #[.string x.u.id, .int .i64 x.u.want, .slice x.a x.n x.c, .bool x.u.done] 30 (0, 0))) (hne : A.map (·.block) ≠ some vb) (hi : i ≤ n) (hn : n ≤ 1048576) (hb : base ≤ w.heap.size) :
    Calls Tryd.prog 64 #[.slice A n C, .int .i64 i, .slice (some ⟨vb, 0, none⟩) 1 1] w fun e w' => ∃ A' C', e = .returned (.slice A' (n + 1) C') ∧ OwnU w' base A' (n + 1) C' (l.take i ++ [x] ++ l.drop i) ∧ w.grownBy w' (A.map (·.block)) := by
  by_cases hin : i = n
  · subst hin
    have hl := ho.len
    rw [List.take_of_length_le (by omega), List.drop_of_length_le (by omega), List.append_nil]
    exact insEndU_any base A i C l vb x w ho hv hn hb
  · obtain ⟨g, rfl⟩ := ho.addr' (show 0 < n by omega)
    by_cases hroom : n + 1 ≤ C
    · exact insRoomU_any base g n C i l vb x w ho hv (fun e => hne (by simp [e])) (by omega) hn hroom
    · exact insGrowU_any base g n C i l vb x w ho hv (by omega) hn (by omega) hb

end Go.Proofs.YtogopmngbjkcjafDoor

namespace Go.Proofs.YtogopmngbjkcjafDoor
open Go.RowKit
set_option linter.unusedVariables false

theorem bl_irrefl : ∀ l : List UInt8, Op.bytesLess l l = false
  | [] => by simp [Op.bytesLess]
  | x :: l => by simp [Op.bytesLess, bl_irrefl l]

theorem bl_trans : ∀ {a b c : List UInt8}, Op.bytesLess a b = true → Op.bytesLess b c = true → Op.bytesLess a c = true
  | [], [], c, h, _ => by simp [Op.bytesLess] at h
  | [], y :: b, [], _, h => by simp [Op.bytesLess] at h
  | [], y :: b, z :: c, _, _ => by simp [Op.bytesLess]
  | x :: a, [], c, h, _ => by simp [Op.bytesLess] at h
  | x :: a, y :: b, [], _, h => by simp [Op.bytesLess] at h
  | x :: a, y :: b, z :: c, h1, h2 => by
    simp only [Op.bytesLess, Bool.or_eq_true, Bool.and_eq_true, decide_eq_true_eq, beq_iff_eq] at h1 h2 ⊢
    rcases h1 with h1 | ⟨rfl, h1⟩
    · rcases h2 with h2 | ⟨rfl, h2⟩
      · exact .inl (UInt8.lt_trans h1 h2)
      · exact .inl h1
    · rcases h2 with h2 | ⟨rfl, h2⟩
      · exact .inl h2
      · exact .inr ⟨rfl, bl_trans h1 h2⟩

theorem bl_tri : ∀ a b : List UInt8, Op.bytesLess a b = true ∨ a = b ∨ Op.bytesLess b a = true
  | [], [] => .inr (.inl rfl)
  | [], y :: b => .inl (by simp [Op.bytesLess])
  | x :: a, [] => .inr (.inr (by simp [Op.bytesLess]))
  | x :: a, y :: b => by
    simp only [Op.bytesLess, Bool.or_eq_true, Bool.and_eq_true, decide_eq_true_eq, beq_iff_eq, List.cons.injEq]
    by_cases h1 : x < y
    · exact .inl (.inl h1)
    · by_cases h2 : y < x
      · exact .inr (.inr (.inl h2))
      · have e : x = y := UInt8.le_antisymm (UInt8.not_lt.1 h2) (UInt8.not_lt.1 h1)
        subst e
        rcases bl_tri a b with h | h | h
        · exact .inl (.inr ⟨rfl, h⟩)
        · exact .inr (.inl ⟨rfl, h⟩)
        · exact .inr (.inr (.inr ⟨rfl, h⟩))

/-- A name ahead of another. -/
def ltS (x y : ByteArray) : Bool := Op.bytesLess x.toList y.toList

theorem toList_inj {s t : ByteArray} (h : s.toList = t.toList) : s = t := by
  rw [Lib.toList_data, Lib.toList_data] at h
  cases s
  cases t
  exact congrArg ByteArray.mk (Array.toList_inj.1 h)

theorem ltS_irrefl (x : ByteArray) : ltS x x = false := bl_irrefl _
theorem ltS_trans {x y z : ByteArray} (h1 : ltS x y = true) (h2 : ltS y z = true) : ltS x z = true := bl_trans h1 h2
theorem ltS_tri (x y : ByteArray) : ltS x y = true ∨ x = y ∨ ltS y x = true := by
  rcases bl_tri x.toList y.toList with h | h | h
  · exact .inl h
  · exact .inr (.inl (toList_inj h))
  · exact .inr (.inr h)
theorem ltS_asym {x y : ByteArray} (h : ltS x y = true) : ltS y x = false := by
  cases h2 : ltS y x with
  | false => rfl
  | true => have := ltS_trans h h2; rw [ltS_irrefl] at this; cases this

theorem gtS_iff {x y : ByteArray} : gtS x y = true ↔ ltS y x = true := by
  constructor
  · intro h
    rcases ltS_tri x y with h1 | rfl | h1
    · simp [gtS, show Op.bytesLess x.toList y.toList = true from h1] at h
    · simp [gtS] at h
    · exact h1
  · intro h
    have h1 : Op.bytesLess x.toList y.toList = false := ltS_asym h
    have h2 : x ≠ y := fun e => by subst e; rw [ltS_irrefl] at h; cases h
    have h3 : (x.toList == y.toList) = false := by
      rw [beq_eq_false_iff_ne]
      exact fun e => h2 (toList_inj e)
    simp [gtS, h1, h3]

/-- Uploads rise by their names. -/
def Asc (l : List U) : Prop := l.Pairwise fun u v => ltS u.id v.id = true

theorem asc_ne {l : List U} (h : Asc l) {i j : Nat} (hi : i < l.length) (hj : j < l.length) (hij : i < j) : (l[i]).id ≠ (l[j]).id := fun e => by
  have := (List.pairwise_iff_getElem.1 h) i j hi hj hij
  rw [e, ltS_irrefl] at this
  cases this

/-- How many of the first ones are ahead of a name. -/
def lessU (l : List U) (id : ByteArray) : Nat := match l with
  | [] => 0
  | u :: l => if ltS u.id id = true then lessU l id + 1 else 0

theorem lessU_le (id : ByteArray) : ∀ l : List U, lessU l id ≤ l.length
  | [] => Nat.le_refl _
  | u :: l => by
    rw [lessU]
    split
    · have := lessU_le id l; simp only [List.length_cons]; omega
    · exact Nat.zero_le _

theorem lessU_at {id : ByteArray} : ∀ {l : List U} {k : Nat}, k ≤ l.length → (∀ j (hj : j < l.length), j < k → ltS (l[j]).id id = true) → (∀ (hk : k < l.length), ltS (l[k]).id id = false) → lessU l id = k
  | [], k, hk, _, _ => by simp at hk; rw [hk]; rfl
  | u :: l, 0, _, _, h => by rw [lessU, if_neg (by rw [show ltS u.id id = false from h (by simp)]; simp)]
  | u :: l, k + 1, hk, h1, h2 => by
    rw [lessU, if_pos (show ltS u.id id = true from h1 0 (by simp) (by omega))]
    rw [lessU_at (k := k) (by simpa using hk) (fun j hj hjk => h1 (j + 1) (by simpa using hj) (by omega)) (fun hk2 => h2 (by simpa using hk2))]

/-- In uploads that rise one is put where the program puts it. -/
theorem ins_less {l : List U} {id : ByteArray} (ha : Asc l) (hn : atU l id = none) : insK l id l.length = lessU l id := by
  have hne : ∀ k (hk : k < l.length), (l[k]).id ≠ id := by
    intro k hk
    rw [atU, List.findIdx?_eq_none_iff] at hn
    simpa using hn (l[k]) (List.getElem_mem hk)
  have key : ∀ k, k ≤ l.length → (∀ j (hj : j < l.length), k ≤ j → ltS id (l[j]).id = true) → lessU l id = insK l id k := by
    intro k
    induction k with
    | zero =>
      intro _ h
      exact lessU_at (Nat.zero_le _) (fun j _ hj => absurd hj (Nat.not_lt_zero _)) (fun hk => ltS_asym (h 0 hk (Nat.le_refl _)))
    | succ k ih =>
      intro hk h
      have hkl : k < l.length := hk
      by_cases hg : gtS (l[k]).id id = true
      · rw [insK_down (List.getElem?_eq_getElem hkl) hg]
        refine ih (by omega) (fun j hj hkj => ?_)
        by_cases e : j = k
        · subst e; exact gtS_iff.1 hg
        · exact h j hj (by omega)
      · rw [insK_stop (List.getElem?_eq_getElem hkl) hg]
        have hlt : ltS (l[k]).id id = true := by
          rcases ltS_tri (l[k]).id id with h1 | h1 | h1
          · exact h1
          · exact absurd h1 (hne k hkl)
          · exact absurd (gtS_iff.2 h1) hg
        refine lessU_at hk (fun j hj hjk => ?_) (fun hk2 => ltS_asym (h (k + 1) hk2 (Nat.le_refl _)))
        by_cases e : j = k
        · subst e; exact hlt
        · exact ltS_trans ((List.pairwise_iff_getElem.1 ha) j k hj hkl (by omega)) hlt
  exact (key l.length (Nat.le_refl _) (fun j hj hlj => by omega)).symm

theorem less_take {l : List U} {id : ByteArray} : ∀ j (hj : j < l.length), j < lessU l id → ltS (l[j]).id id = true := by
  induction l with
  | nil => intro j hj; simp at hj
  | cons u l ih =>
    intro j hj hlt
    rw [lessU] at hlt
    split at hlt
    · rename_i h
      cases j with
      | zero => exact h
      | succ j => exact ih j (by simpa using hj) (by omega)
    · omega

theorem less_drop {l : List U} {id : ByteArray} (ha : Asc l) (hn : atU l id = none) : ∀ j (hj : j < l.length), lessU l id ≤ j → ltS id (l[j]).id = true := by
  have hne : ∀ k (hk : k < l.length), (l[k]).id ≠ id := by
    intro k hk
    rw [atU, List.findIdx?_eq_none_iff] at hn
    simpa using hn (l[k]) (List.getElem_mem hk)
  clear hn
  induction l with
  | nil => intro j hj; simp at hj
  | cons u l ih =>
    intro j hj hlt
    rw [lessU] at hlt
    have hal : Asc l := (List.pairwise_cons.1 ha).2
    split at hlt
    · cases j with
      | zero => omega
      | succ j => exact ih hal (fun k hk => hne (k + 1) (by simpa using hk)) j (by simpa using hj) (by omega)
    · rename_i h
      have h0 : ltS id u.id = true := by
        rcases ltS_tri u.id id with h1 | h1 | h1
        · exact absurd h1 h
        · exact absurd h1 (hne 0 (by simp))
        · exact h1
      cases j with
      | zero => exact h0
      | succ j =>
        have := (List.pairwise_cons.1 ha).1 (l[j]'(by simpa using hj)) (List.getElem_mem _)
        exact ltS_trans h0 this

/-- What is kept where all of a name go. -/
def keptU (l : List U) (id : ByteArray) : List U := l.filter fun u => !decide (u.id = id)

theorem erase_kept {l : List U} {id : ByteArray} {k : Nat} (ha : Asc l) (hk : atU l id = some k) : keptU l id = l.eraseIdx k := by
  obtain ⟨hkl, hid⟩ := atU_is hk
  have h1 : l = l.take k ++ l[k] :: l.drop (k + 1) := by rw [← List.drop_eq_getElem_cons hkl, List.take_append_drop]
  have ht : (l.take k).filter (fun u => !decide (u.id = id)) = l.take k := by
    rw [List.filter_eq_self]
    intro u hu
    obtain ⟨j, hj, rfl⟩ := List.mem_iff_getElem.1 hu
    have hjk : j < k := by simp at hj; omega
    have := asc_ne ha (show j < l.length by omega) hkl hjk
    rw [hid] at this
    simpa using this
  have hd : (l.drop (k + 1)).filter (fun u => !decide (u.id = id)) = l.drop (k + 1) := by
    rw [List.filter_eq_self]
    intro u hu
    obtain ⟨j, hj, rfl⟩ := List.mem_iff_getElem.1 hu
    have hjl : k + 1 + j < l.length := by simp at hj; omega
    have := asc_ne ha hkl hjl (by omega)
    rw [hid] at this
    simpa using Ne.symm this
  rw [List.eraseIdx_eq_take_drop_succ, keptU]
  conv => lhs; rw [h1]
  rw [List.filter_append, List.filter_cons, ht, hd]
  simp [hid]

theorem makeU_less {l : List U} {u : U} (ha : Asc l) (hn : atU l u.id = none) : makeU l u = l.take (lessU l u.id) ++ u :: l.drop (lessU l u.id) := by rw [makeU, ins_less ha hn]

theorem asc_set {l : List U} {k : Nat} {u v : U} (ha : Asc l) (hu : l[k]? = some u) (he : v.id = u.id) : Asc (l.set k v) := by
  obtain ⟨hkl, hke⟩ := List.getElem?_eq_some_iff.1 hu
  rw [Asc, List.pairwise_iff_getElem]
  intro i j hi hj hij
  have hil : i < l.length := by simpa using hi
  have hjl : j < l.length := by simpa using hj
  have hid : ∀ m (hm : m < l.length), ((l.set k v)[m]'(by simpa using hm)).id = (l[m]).id := by
    intro m hm
    rw [List.getElem_set]
    split
    · rename_i e; subst e; rw [he, hke]
    · rfl
  rw [hid i hil, hid j hjl]
  exact (List.pairwise_iff_getElem.1 ha) i j hil hjl hij

theorem oneU_asc {l l' : List U} {r : R} (ha : Asc l) (h : oneU l r = some l') : Asc l' := by
  rw [oneU] at h
  split at h
  · split at h
    · rename_i hc
      injection h with h
      subst h
      have ha2 := ha
      rw [Asc, List.pairwise_iff_getElem] at ha2
      rw [makeU_less ha hc.1, Asc, List.pairwise_append]
      dsimp only
      have hle := lessU_le r.id l
      refine ⟨List.Pairwise.sublist (List.take_sublist _ _) ha, List.pairwise_cons.2 ⟨?_, List.Pairwise.sublist (List.drop_sublist _ _) ha⟩, ?_⟩
      · intro v hv
        obtain ⟨j, hj, rfl⟩ := List.mem_iff_getElem.1 hv
        rw [List.getElem_drop]
        rw [List.length_drop] at hj
        exact less_drop ha hc.1 _ (by omega) (by omega)
      · intro v hv x hx
        obtain ⟨j, hj, rfl⟩ := List.mem_iff_getElem.1 hv
        rw [List.getElem_take]
        rw [List.length_take] at hj
        have hjl : j < lessU l r.id := by omega
        have hjn : j < l.length := by omega
        rcases List.mem_cons.1 hx with rfl | hx
        · exact less_take j hjn hjl
        · obtain ⟨i, hi, rfl⟩ := List.mem_iff_getElem.1 hx
          rw [List.getElem_drop]
          rw [List.length_drop] at hi
          exact ha2 _ _ hjn (by omega) (by omega)
    · cases h
  · split at h
    · cases h
    · split at h
      · cases h
      · rename_i k _ x hx
        split at h
        · split at h
          · cases h
          · injection h with h
            subst h
            exact asc_set ha hx rfl
        · split at h
          · split at h
            · cases h
            · injection h with h
              subst h
              exact asc_set ha hx rfl
          · split at h
            · injection h with h
              subst h
              exact List.Pairwise.sublist (List.eraseIdx_sublist ..) ha
            · cases h

theorem foldU_asc {rs : List R} {l : List U} (h : foldU rs = some l) : Asc l := by
  have key : ∀ (rs : List R) (a b : List U), Asc a → rs.foldlM oneU a = some b → Asc b := by
    intro rs
    induction rs with
    | nil => intro a b ha h; simp at h; subst h; exact ha
    | cons r rs ih =>
      intro a b ha h
      rw [List.foldlM_cons] at h
      cases ho : oneU a r with
      | none => rw [ho] at h; cases h
      | some c => rw [ho] at h; exact ih c b (oneU_asc ha ho) h
  exact key rs [] l List.Pairwise.nil h

end Go.Proofs.YtogopmngbjkcjafDoor

namespace Go.Proofs.YtogopmngbjkcjafDoor
open Go.RowKit
set_option linter.unusedVariables false

theorem OwnU.at {W : World} {base n c : Nat} {a : Option Addr} {l : List UE} (h : OwnU W base a n c l) {i : Nat} (hi : i < l.length) :
    ∃ g, a = some ⟨g, 0, none⟩ ∧ g < W.heap.size ∧ W.cell? ⟨g, i * 4, none⟩ = some (.string (l[i]).u.id) ∧ W.cell? ⟨g, i * 4 + 1, none⟩ = some (.int .i64 (l[i]).u.want) ∧ W.cell? ⟨g, i * 4 + 2, none⟩ = some (.slice (l[i]).a (l[i]).n (l[i]).c) ∧ W.cell? ⟨g, i * 4 + 3, none⟩ = some (.bool (l[i]).u.done) ∧ ∀ j, W.frozen? ⟨g, j, none⟩ = false := by
  have hn := h.len
  have h' : W.ownsRow base 30 4 (.slice a n c) n (ueCells l) := h
  rcases h'.2 with ⟨_, h0⟩ | ⟨g, cap, cur, he, _⟩
  · omega
  · injection he with e1 e2 e3
    subst e1
    have hl := ueCells_len l
    obtain ⟨h0, h1, h2, h3⟩ := ueCells_at l i hi
    refine ⟨g, rfl, (h.lt g rfl).2, ?_, ?_, ?_, ?_, fun j => h'.frozenAt j⟩
    · rw [h'.cellAt _ (by omega)]; exact h0
    · rw [h'.cellAt _ (by omega)]; exact h1
    · rw [h'.cellAt _ (by omega)]; exact h2
    · rw [h'.cellAt _ (by omega)]; exact h3

set_option maxRecDepth 10000 in
set_option maxHeartbeats 1600000 in
theorem implWithU_any (base : Nat) (A : Option Addr) (n C : Nat) (l : List UE) (x : UE) (w : World) (ho : OwnU w base A n C l) (hn : n ≤ 1048576) (hb : base ≤ w.heap.size) :
    Calls Tryd.prog 49 #[.slice A n C, .agg #[.string x.u.id, .int .i64 x.u.want, .slice x.a x.n x.c, .bool x.u.done]] w fun e w' => ∃ A' C', e = .returned (.slice A' (n + 1) C') ∧ OwnU w' base A' (n + 1) C' (l.take (lessU (l.map UE.u) x.u.id) ++ [x] ++ l.drop (lessU (l.map UE.u) x.u.id)) ∧ w.grownBy w' (A.map (·.block)) := by
  have HO : Hid (OwnU w base A n C l) := ho
  have HL : Hid (l.length = n) := ho.len
  have HBs : Hid (base ≤ w.heap.size) := hb
  have HB0 : Hid (Below w.heap.size w (w.alloc (.cells #[.string x.u.id, .int .i64 x.u.want, .slice x.a x.n x.c, .bool x.u.done] 30))) := (Below.refl _ _).alloc (Nat.le_refl _) _
  have HX0 : Hid (BoxN (w.alloc (.cells #[.string x.u.id, .int .i64 x.u.want, .slice x.a x.n x.c, .bool x.u.done] 30)) w.heap.size 30 [.string x.u.id, .int .i64 x.u.want, .slice x.a x.n x.c, .bool x.u.done]) := BoxN.new _ _ _
  clear ho hb
  go_enter Tryd.func49, Tryd.ntmps49
  go_wp2_with fail
  obtain ⟨w1, hw1⟩ : ∃ w1, w.alloc (.cells #[.string x.u.id, .int .i64 x.u.want, .slice x.a x.n x.c, .bool x.u.done] 30) = w1 := ⟨_, rfl⟩
  rw [hw1] at HB0 HX0 ⊢
  clear hw1
  have hwl : w.heap.size < w1.heap.size := HX0.out.lt
  go_loopw [5] (fun v wr => ∃ k : Nat, k ≤ n ∧ v = .int .i64 k ∧ Hid (Below w1.heap.size w1 wr) ∧ Hid (∀ j (hj : j < (l.map UE.u).length), j < k → ltS ((l.map UE.u)[j]).id x.u.id = true)) (fun v _ => n - (intOf v).toNat)
  case atStart => exact ⟨0, Nat.zero_le _, rfl, Below.refl _ _, fun j _ hj => absurd hj (Nat.not_lt_zero _)⟩
  case round =>
    obtain ⟨k, hk, rfl, HB, HN⟩ := hrel
    have hxr := HX0.out.stays HB.out
    have hwr : w.heap.size < wr.heap.size := Nat.lt_of_lt_of_le hwl HB.out.size
    have hne := past_some wr
    have x5 : ∀ P : Past wr, P.world.cell? ⟨w.heap.size, 0, none⟩ = some (.string x.u.id) := fun P => P.cell hwr (hxr.cell 0 rfl)
    have x6 : ∀ P : Past wr, P.world.cell? ⟨w.heap.size, 1, none⟩ = some (.int .i64 x.u.want) := fun P => P.cell hwr (hxr.cell 1 rfl)
    have x7 : ∀ P : Past wr, P.world.cell? ⟨w.heap.size, 2, none⟩ = some (.slice x.a x.n x.c) := fun P => P.cell hwr (hxr.cell 2 rfl)
    have x8 : ∀ P : Past wr, P.world.cell? ⟨w.heap.size, 3, none⟩ = some (.bool x.u.done) := fun P => P.cell hwr (hxr.cell 3 rfl)
    have HWr : Hid (Below w.heap.size w wr) := HB0.out.trans (HB.out.mono HB0.out.size)
    have HO2 : Hid (OwnU wr base A n C l) := HO.out.below HWr.out
    have m2 := keyMU x.u.id x.u.want x.a x.n x.c x.u.done
    by_cases hlt : k < n
    case neg =>
      have HLs : Hid (lessU (l.map UE.u) x.u.id = k) := lessU_at (by have := HL.out; rw [List.length_map]; omega) HN.out (fun h => by have := HL.out; rw [List.length_map] at h; omega)
      have hkn : ¬ ((k : Int) < (n : Int)) := by omega
      have dk0 : decide ((k : Int) < (n : Int)) = false := by simpa using hkn
      have dk1 : ((k : Int) < (n : Int)) = False := by simpa using hkn
      have dk2 : decide (k < n) = false := by simpa using hlt
      have dk3 : (k < n) = False := by simpa using hlt
      go_wp2_with fail
      go_quiet (fail)
      have hxq : BoxN (wr.drewN nq) w.heap.size 30 [.string x.u.id, .int .i64 x.u.want, .slice x.a x.n x.c, .bool x.u.done] := hxr
      have HZ : Hid (Below w.heap.size w (wr.drewN nq)) := below_drewN HWr.out _
      obtain ⟨W4, hW4⟩ : ∃ W4, wr.drewN nq = W4 := ⟨_, rfl⟩
      rw [hW4] at hxq HZ ⊢
      clear hW4 x5 x6 x7 x8 hxr
      have y5 := hxq.cell 0 rfl
      have y6 := hxq.cell 1 rfl
      have y7 := hxq.cell 2 rfl
      have y8 := hxq.cell 3 rfl
      have HV : Hid ((W4.alloc (.cells #[.string x.u.id, .int .i64 x.u.want, .slice x.a x.n x.c, .bool x.u.done] 30)).heap[W4.heap.size]? = some (.cells #[.string x.u.id, .int .i64 x.u.want, .slice x.a x.n x.c, .bool x.u.done] 30 (0, 0))) := heap_alloc_new W4 _
      have HZ5 : Hid (Below w.heap.size w (W4.alloc (.cells #[.string x.u.id, .int .i64 x.u.want, .slice x.a x.n x.c, .bool x.u.done] 30))) := HZ.out.alloc HZ.out.size _
      have HO5 : Hid (OwnU (W4.alloc (.cells #[.string x.u.id, .int .i64 x.u.want, .slice x.a x.n x.c, .bool x.u.done] 30)) base A n C l) := HO.out.below HZ5.out
      have HN5 : Hid (Option.map (fun a : Addr => a.block) A ≠ some W4.heap.size) := fun e => by have h1 := (HO.out.lt _ e).2; have h2 := HZ.out.size; omega
      clear hxq
      go_wp2_with fail
      refine (insU_any base A n C k l W4.heap.size x _ HO5.out HV.out HN5.out hk hn (Nat.le_trans HBs.out HZ5.out.size)).mono ?_
      rintro e w5 ⟨A5, C5, rfl, ho5, hg5⟩
      have HR : Hid (OwnU w5 base A5 (n + 1) C5 (l.take (lessU (l.map UE.u) x.u.id) ++ [x] ++ l.drop (lessU (l.map UE.u) x.u.id)) ∧ w.grownBy w5 (Option.map (·.block) A)) := by
        refine ⟨by rw [HLs.out]; exact ho5, ⟨hg5.os.trans HZ5.out.os, hg5.tape.trans HZ5.out.tape, hg5.output.trans HZ5.out.output, Nat.le_trans HZ5.out.size hg5.size, fun j hj hne => (hg5.block j (Nat.lt_of_lt_of_le hj HZ5.out.size) hne).trans (HZ5.out.block j hj)⟩⟩
      clear ho5 hg5
      go_wp2_with fail
      go_ret
      exact ⟨_, _, rfl, HR.out.1, HR.out.2⟩
    have hki : (k : Int) < (n : Int) := by omega
    have hkl : k < l.length := by have := HL.out; omega
    obtain ⟨b, rfl, hb, g0, g1, g2, g3, _⟩ := HO2.out.at hkl
    have HA : Hid (((l.map UE.u)[k]'(by rw [List.length_map]; exact hkl)).id = (l[k]).u.id) := by show _ = _; rw [List.getElem_map]
    have m1 := keyMU (l[k]).u.id (l[k]).u.want (l[k]).a (l[k]).n (l[k]).c (l[k]).u.done
    have x1 : ∀ P : Past wr, P.world.cell? ⟨b, k * 4, none⟩ = some (.string (l[k]).u.id) := fun P => P.cell hb g0
    have x2 : ∀ P : Past wr, P.world.cell? ⟨b, k * 4 + 1, none⟩ = some (.int .i64 (l[k]).u.want) := fun P => P.cell hb g1
    have x3 : ∀ P : Past wr, P.world.cell? ⟨b, k * 4 + 2, none⟩ = some (.slice (l[k]).a (l[k]).n (l[k]).c) := fun P => P.cell hb g2
    have x4 : ∀ P : Past wr, P.world.cell? ⟨b, k * 4 + 3, none⟩ = some (.bool (l[k]).u.done) := fun P => P.cell hb g3
    by_cases g : ltS (l[k]).u.id x.u.id = true
    · have HN2 : Hid (∀ j (hj : j < (l.map UE.u).length), j < k + 1 → ltS ((l.map UE.u)[j]).id x.u.id = true) := fun j hj hjk => by
        by_cases e : j = k
        · subst e; rw [HA.out]; exact g
        · exact HN.out j hj (by omega)
      have d5 : Op.bytesLess (l[k]).u.id.toList x.u.id.toList = true := g
      clear HN HA g g0 g1 g2 g3
      generalize l[k] = y at *
      go_wp2_with fail
      refine wp_region_past (by kernel_rfl) (by kernel_rfl) ?_
      repeat (quiet_step ((first | (go_at_call 88; exact calls_past (implKeyU_any _ _ _ _ _ _ _)) | fail)))
      refine wpQuiet_nil ?_
      rintro _ ⟨z, rfl⟩
      have HZ : Hid (Below w1.heap.size w1 z.world) := HB.out.trans (z.below.mono HB.out.size)
      go_wp2_with fail
      go_roundw
      case rel => exact ⟨k + 1, by omega, by go_num, HZ, HN2⟩
      case measure => simp [intOf]; omega
    · have g' : ltS (l[k]).u.id x.u.id = false := by simpa using g
      have HLs : Hid (lessU (l.map UE.u) x.u.id = k) := lessU_at (by rw [List.length_map]; omega) HN.out (fun h => by rw [HA.out]; exact g')
      have d5 : Op.bytesLess (l[k]).u.id.toList x.u.id.toList = false := g'
      clear HN HA g g' g0 g1 g2 g3
      generalize l[k] = y at *
      go_wp2_with fail
      refine wp_region_past (by kernel_rfl) (by kernel_rfl) ?_
      repeat (quiet_step ((first | (go_at_call 88; exact calls_past (implKeyU_any _ _ _ _ _ _ _)) | fail)))
      refine wpQuiet_nil ?_
      rintro _ ⟨z, rfl⟩
      have y5 := x5 z
      have y6 := x6 z
      have y7 := x7 z
      have y8 := x8 z
      have HZ : Hid (Below w.heap.size w z.world) := HWr.out.trans (z.below.mono HWr.out.size)
      obtain ⟨W4, hW4⟩ : ∃ W4, z.world = W4 := ⟨_, rfl⟩
      rw [hW4] at y5 y6 y7 y8 HZ ⊢
      clear hW4 x5 x6 x7 x8 x1 x2 x3 x4
      have HV : Hid ((W4.alloc (.cells #[.string x.u.id, .int .i64 x.u.want, .slice x.a x.n x.c, .bool x.u.done] 30)).heap[W4.heap.size]? = some (.cells #[.string x.u.id, .int .i64 x.u.want, .slice x.a x.n x.c, .bool x.u.done] 30 (0, 0))) := heap_alloc_new W4 _
      have HZ5 : Hid (Below w.heap.size w (W4.alloc (.cells #[.string x.u.id, .int .i64 x.u.want, .slice x.a x.n x.c, .bool x.u.done] 30))) := HZ.out.alloc HZ.out.size _
      have HO5 : Hid (OwnU (W4.alloc (.cells #[.string x.u.id, .int .i64 x.u.want, .slice x.a x.n x.c, .bool x.u.done] 30)) base (some ⟨b, 0, none⟩) n C l) := HO.out.below HZ5.out
      have HN5 : Hid (Option.map (fun a : Addr => a.block) (some (⟨b, 0, none⟩ : Addr)) ≠ some W4.heap.size) := fun e => by have h1 := (HO.out.lt _ e).2; have h2 := HZ.out.size; omega
      go_wp2_with fail
      refine (insU_any base (some ⟨b, 0, none⟩) n C k l W4.heap.size x _ HO5.out HV.out HN5.out hk hn (Nat.le_trans HBs.out HZ5.out.size)).mono ?_
      rintro e w5 ⟨A5, C5, rfl, ho5, hg5⟩
      have HR : Hid (OwnU w5 base A5 (n + 1) C5 (l.take (lessU (l.map UE.u) x.u.id) ++ [x] ++ l.drop (lessU (l.map UE.u) x.u.id)) ∧ w.grownBy w5 (Option.map (fun a : Addr => a.block) (some (⟨b, 0, none⟩ : Addr)))) := by
        refine ⟨by rw [HLs.out]; exact ho5, ⟨hg5.os.trans HZ5.out.os, hg5.tape.trans HZ5.out.tape, hg5.output.trans HZ5.out.output, Nat.le_trans HZ5.out.size hg5.size, fun j hj hne => (hg5.block j (Nat.lt_of_lt_of_le hj HZ5.out.size) hne).trans (HZ5.out.block j hj)⟩⟩
      clear ho5 hg5
      go_wp2_with fail
      go_ret
      exact ⟨_, _, rfl, HR.out.1, HR.out.2⟩

end Go.Proofs.YtogopmngbjkcjafDoor

namespace Go.Proofs.YtogopmngbjkcjafDoor
open Go.RowKit
set_option linter.unusedVariables false

/-- An upload is written into a row of the call's own. -/
theorem ueCells_put (M D : List UE) (e x : UE) :
    ((((ueCells (M ++ e :: D)).set (M.length * 4) (.string x.u.id)).set (M.length * 4 + 1) (.int .i64 x.u.want)).set (M.length * 4 + 2) (.slice x.a x.n x.c)).set (M.length * 4 + 3) (.bool x.u.done) = ueCells (M ++ x :: D) := by
  have hl := ueCells_len M
  rw [ueCells_append, ueCells_append, ueCells_cons, ueCells_cons]
  rw [List.set_append_right _ _ (by omega), hl, Nat.sub_self, List.set_cons_zero]
  rw [List.set_append_right _ _ (by omega), hl, show M.length * 4 + 1 - M.length * 4 = 1 by omega]
  rw [List.set_append_right _ _ (by omega), hl, show M.length * 4 + 2 - M.length * 4 = 2 by omega]
  rw [List.set_append_right _ _ (by omega), hl, show M.length * 4 + 3 - M.length * 4 = 3 by omega]
  rfl

theorem OwnU.put {w : World} {base g n C : Nat} {M D : List UE} {e : UE} (h : OwnU w base (some ⟨g, 0, none⟩) n C (M ++ e :: D)) (x : UE) :
    OwnU ((((w.setCell ⟨g, M.length * 4, none⟩ (.string x.u.id)).setCell ⟨g, M.length * 4 + 1, none⟩ (.int .i64 x.u.want)).setCell ⟨g, M.length * 4 + 2, none⟩ (.slice x.a x.n x.c)).setCell ⟨g, M.length * 4 + 3, none⟩ (.bool x.u.done)) base (some ⟨g, 0, none⟩) n C (M ++ x :: D) ∧ w.grownBy ((((w.setCell ⟨g, M.length * 4, none⟩ (.string x.u.id)).setCell ⟨g, M.length * 4 + 1, none⟩ (.int .i64 x.u.want)).setCell ⟨g, M.length * 4 + 2, none⟩ (.slice x.a x.n x.c)).setCell ⟨g, M.length * 4 + 3, none⟩ (.bool x.u.done)) (some g) := by
  have h0 : w.ownsRow base 30 4 (.slice (some ⟨g, 0, none⟩) n C) n (ueCells (M ++ e :: D)) := h
  have h1 := h0.stored (M.length * 4) (.string x.u.id)
  have h2 := h1.1.stored (M.length * 4 + 1) (.int .i64 x.u.want)
  have h3 := h2.1.stored (M.length * 4 + 2) (.slice x.a x.n x.c)
  have h4 := h3.1.stored (M.length * 4 + 3) (.bool x.u.done)
  have h5 := h4.1
  rw [ueCells_put] at h5
  exact ⟨h5, World.grownBy.trans (World.grownBy.trans (World.grownBy.trans h1.2 h2.2) h3.2) h4.2⟩

end Go.Proofs.YtogopmngbjkcjafDoor

namespace Go.Proofs.YtogopmngbjkcjafDoor
open Go.RowKit
set_option linter.unusedVariables false

set_option maxRecDepth 10000 in
set_option maxHeartbeats 800000 in
theorem implDelU_any (x : UE) (id : ByteArray) (kb : Nat) (w : World) (h : w.cell? ⟨kb, 0, none⟩ = some (.string id)) : Calls Tryd.prog 66 #[.agg #[.string x.u.id, .int .i64 x.u.want, .slice x.a x.n x.c, .bool x.u.done], .pointer (some ⟨kb, 0, none⟩)] w fun e w' => e = .returned (.bool (decide (x.u.id = id))) ∧ Below w.heap.size w w' := by
  have hkb : kb < w.heap.size := lt_of_cell h
  have HB : Hid (Below w.heap.size w (w.alloc (.cells #[.string x.u.id, .int .i64 x.u.want, .slice x.a x.n x.c, .bool x.u.done] 30))) := (Below.refl _ _).alloc (Nat.le_refl _) _
  have hx : BoxN (w.alloc (.cells #[.string x.u.id, .int .i64 x.u.want, .slice x.a x.n x.c, .bool x.u.done] 30)) w.heap.size 30 [.string x.u.id, .int .i64 x.u.want, .slice x.a x.n x.c, .bool x.u.done] := BoxN.new _ _ _
  have hk1 : (w.alloc (.cells #[.string x.u.id, .int .i64 x.u.want, .slice x.a x.n x.c, .bool x.u.done] 30)).cell? ⟨kb, 0, none⟩ = some (.string id) := (HB.out.cell (p := ⟨kb, 0, none⟩) hkb).trans h
  have m1 := keyMU x.u.id x.u.want x.a x.n x.c x.u.done
  have he := ids_eq x.u.id id
  go_enter Tryd.func66, Tryd.ntmps66
  go_wp2_with fail
  obtain ⟨w1, hw1⟩ : ∃ w1, w.alloc (.cells #[.string x.u.id, .int .i64 x.u.want, .slice x.a x.n x.c, .bool x.u.done] 30) = w1 := ⟨_, rfl⟩
  rw [hw1] at hx hk1 HB ⊢
  clear hw1
  have hlt : w.heap.size < w1.heap.size := hx.lt
  have hne := past_some w1
  have y0 : ∀ P : Past w1, P.world.cell? ⟨w.heap.size, 0, none⟩ = some (.string x.u.id) := fun P => P.cell hlt (hx.cell 0 rfl)
  have y1 : ∀ P : Past w1, P.world.cell? ⟨w.heap.size, 1, none⟩ = some (.int .i64 x.u.want) := fun P => P.cell hlt (hx.cell 1 rfl)
  have y2 : ∀ P : Past w1, P.world.cell? ⟨w.heap.size, 2, none⟩ = some (.slice x.a x.n x.c) := fun P => P.cell hlt (hx.cell 2 rfl)
  have y3 : ∀ P : Past w1, P.world.cell? ⟨w.heap.size, 3, none⟩ = some (.bool x.u.done) := fun P => P.cell hlt (hx.cell 3 rfl)
  have y4 : ∀ P : Past w1, P.world.cell? ⟨kb, 0, none⟩ = some (.string id) := fun P => P.cell (by show kb < _; omega) hk1
  clear hk1 hx h
  refine wp_region_past (by kernel_rfl) (by kernel_rfl) ?_
  repeat (quiet_step ((first | (go_at_call 88; exact calls_past (implKeyU_any _ _ _ _ _ _ _)) | fail)))
  refine wpQuiet_nil ?_
  rintro _ ⟨z, rfl⟩
  have HZ : Hid (Below w.heap.size w z.world) := HB.out.trans (z.below.mono HB.out.size)
  go_wp2_with fail
  go_ret
  exact ⟨rfl, HZ.out⟩

set_option maxRecDepth 10000 in
set_option maxHeartbeats 800000 in
theorem implIdxU_any (base : Nat) (a : Option Addr) (len cap : Nat) (l : List UE) (g : Nat) (cb : Array Value) (pr : UE → Bool) (w : World) (eg : ∀ (args : Array Value) (w : World), Sem.run Tryd.prog (callFunc g args) w = .ok (.enter g args) w) (hs : OwnU w base a len cap l) (hl : len ≤ 1099511627776)
    (hp : ∀ (x : UE) W, Below w.heap.size w W → Calls Tryd.prog g (#[.agg #[.string x.u.id, .int .i64 x.u.want, .slice x.a x.n x.c, .bool x.u.done]] ++ cb) W fun e w' => e = .returned (.bool (pr x)) ∧ Below W.heap.size W w') (K : Nat) (hK : K < l.length) (hpK : pr l[K] = true) (hpj : ∀ j (hj : j < l.length), j < K → pr l[j] = false) :
    Calls Tryd.prog 70 #[.slice a len cap, .func (.func g) #[] cb] w fun e w' => e = .returned (.int .i64 (K : Int)) ∧ Below w.heap.size w w' := by
  have HL : Hid (l.length = len) := hs.len
  have HS : Hid (OwnU w base a len cap l) := hs
  have HP : Hid (∀ (x : UE) W, Below w.heap.size w W → Calls Tryd.prog g (#[.agg #[.string x.u.id, .int .i64 x.u.want, .slice x.a x.n x.c, .bool x.u.done]] ++ cb) W fun e w' => e = .returned (.bool (pr x)) ∧ Below W.heap.size W w') := hp
  have HK : Hid (pr l[K] = true) := hpK
  have HJ : Hid (∀ j (hj : j < l.length), j < K → pr l[j] = false) := hpj
  clear hs hp hpK hpj
  have hKl : K < len := by have := HL.out; omega
  go_enter Tryd.func70, Tryd.ntmps70
  go_wp2_with fail
  go_loopw [8] (fun v wr => ∃ k : Nat, k ≤ K ∧ v = .int .i64 k ∧ Hid (Below w.heap.size w wr)) (fun v _ => len - (intOf v).toNat)
  case atStart => exact ⟨0, Nat.zero_le _, rfl, Below.refl _ _⟩
  case round =>
    obtain ⟨k, hk, rfl, HB⟩ := hrel
    have hlt : k < len := by omega
    have hkl : k < l.length := by have := HL.out; omega
    have hki : (k : Int) < (len : Int) := by omega
    obtain ⟨b, rfl, hb, g0, g1, g2, g3, _⟩ := (HS.out.below HB.out).at hkl
    by_cases hkK : k = K
    · subst hkK
      have HPk := HK
      generalize l[k] = x at *
      have hpr : pr x = true := HPk.out
      clear HPk HK
      go_wp2_with fail
      refine (HP.out x _ HB.out).mono ?_
      rintro e w1 ⟨rfl, hb1⟩
      have HB1 : Hid (Below w.heap.size w w1) := HB.out.trans (hb1.mono HB.out.size)
      clear hb1
      rw [hpr]
      go_wp2_with fail
      go_ret
      exact ⟨rfl, HB1.out⟩
    · have hpr : pr l[k] = false := HJ.out k hkl (by omega)
      generalize l[k] = x at *
      go_wp2_with fail
      refine (HP.out x _ HB.out).mono ?_
      rintro e w1 ⟨rfl, hb1⟩
      have HB1 : Hid (Below w.heap.size w w1) := HB.out.trans (hb1.mono HB.out.size)
      clear hb1
      rw [hpr]
      go_wp2_with fail
      go_roundw
      case rel => exact ⟨k + 1, by omega, by go_num, HB1⟩
      case measure => simp [intOf]; omega

/-- What is kept of the first uploads. -/
def keptE (id : ByteArray) (l : List UE) : List UE := l.filter fun s => !decide (s.u.id = id)

theorem keptE_map (id : ByteArray) (l : List UE) : (keptE id l).map UE.u = keptU (l.map UE.u) id := by
  rw [keptE, keptU, List.filter_map]
  rfl

theorem keptE_take_all {id : ByteArray} {l : List UE} {K : Nat} (h : ∀ j (hj : j < l.length), j < K → (l[j]).u.id ≠ id) : keptE id (l.take K) = l.take K := by
  unfold keptE
  rw [List.filter_eq_self]
  intro s hs
  obtain ⟨j, hj, rfl⟩ := List.mem_iff_getElem.1 hs
  rw [List.length_take] at hj
  rw [List.getElem_take]
  simpa using h j (by omega) (by omega)

theorem keptE_next {id : ByteArray} {l : List UE} {j : Nat} (h : j < l.length) : keptE id (l.take (j + 1)) = keptE id (l.take j) ++ (if decide ((l[j]).u.id = id) then [] else [l[j]]) := by
  unfold keptE
  rw [List.take_succ_eq_append_getElem h, List.filter_append]
  congr 1
  by_cases e : (l[j]).u.id = id
  · simp [e]
  · simp [e]

set_option maxRecDepth 10000 in
set_option maxHeartbeats 1600000 in
theorem delU_any (base g n C : Nat) (l : List UE) (id : ByteArray) (kb K : Nat) (w : World) (ho : OwnU w base (some ⟨g, 0, none⟩) n C l) (hkb : w.cell? ⟨kb, 0, none⟩ = some (.string id)) (hne : kb ≠ g) (hn : n ≤ 1048576) (hKn : K < l.length) (hkp : ∀ j (hj : j < l.length), j < K → (l[j]).u.id ≠ id) (hkK : (l[K]).u.id = id) :
    Calls Tryd.prog 65 #[.slice (some ⟨g, 0, none⟩) n C, .func (.func 66) #[] #[.pointer (some ⟨kb, 0, none⟩)]] w fun e w' => e = .returned (.slice (some ⟨g, 0, none⟩) (keptE id l).length C) ∧ OwnU w' base (some ⟨g, 0, none⟩) (keptE id l).length C (keptE id l) ∧ w.grownBy w' (some g) := by
  have hkl : kb < w.heap.size := lt_of_cell hkb
  have hgl : g < w.heap.size := (ho.lt g rfl).2
  have HIx : Hid (Calls Tryd.prog 70 #[.slice (some ⟨g, 0, none⟩) n C, .func (.func 66) #[] #[.pointer (some ⟨kb, 0, none⟩)]] w fun e w' => e = .returned (.int .i64 (K : Int)) ∧ Below w.heap.size w w') :=
    implIdxU_any base (some ⟨g, 0, none⟩) n C l 66 #[.pointer (some ⟨kb, 0, none⟩)] (fun x => decide (x.u.id = id)) w (enters_of Tryd.func66 (by kernel_rfl) rfl) ho (by omega) (fun x W hb => implDelU_any x id kb W ((hb.cell (p := ⟨kb, 0, none⟩) hkl).trans hkb)) K hKn (decide_eq_true hkK) (fun j hj hjK => decide_eq_false (hkp j hj hjK))
  have HL : Hid (l.length = n) := ho.len
  have hKn2 : K < n := by have := HL.out; omega
  have HT : Hid (keptE id (l.take (K + 1)) = l.take K) := by
    show _ = _
    rw [keptE_next hKn, keptE_take_all hkp, hkK]
    simp
  have HO : Hid (OwnU w base (some ⟨g, 0, none⟩) n C l) := ho
  have HKb : Hid (w.cell? ⟨kb, 0, none⟩ = some (.string id)) := hkb
  have hnC : n ≤ C := by obtain ⟨_, _, _, h, _⟩ := ho.row; exact h
  have hCm : C ≤ maxLen := by obtain ⟨_, _, _, _, h⟩ := ho.row; exact h
  have hbg : base ≤ g := (ho.lt g rfl).1
  clear ho hkb hkp hkK
  go_enter Tryd.func65, Tryd.ntmps65
  go_wp2_with fail
  refine HIx.out.mono ?_
  rintro e w1 ⟨rfl, hb1⟩
  have HB1 : Hid (Below w.heap.size w w1) := hb1
  clear hb1 HIx
  have hK1 : ((K : Int) == -1) = false := by simp
  go_wp2_with fail
  go_loopw [5, 6, 7] (fun vi vj _ wr => ∃ i j : Nat, vi = .int .i64 i ∧ vj = .int .i64 j ∧ i < j ∧ j ≤ n ∧ Hid ((keptE id (l.take j)).length = i) ∧ Hid (OwnU wr base (some ⟨g, 0, none⟩) n C (keptE id (l.take j) ++ l.drop i)) ∧ Hid (w.grownBy wr (some g))) (fun _ vj _ _ => n - (intOf vj).toNat)
  case atStart => exact ⟨K, K + 1, rfl, by go_num, by omega, by omega, by show _ = _; rw [HT.out, List.length_take]; omega, by rw [HT.out, List.take_append_drop]; exact HO.out.below HB1.out, ⟨HB1.out.os, HB1.out.tape, HB1.out.output, HB1.out.size, fun j hj _ => HB1.out.block j hj⟩⟩
  case round =>
    obtain ⟨i, j, rfl, rfl, hij, hjn, HI, HOr, HG⟩ := hrel
    have hkc : wr.cell? ⟨kb, 0, none⟩ = some (.string id) := HG.out.cell HKb.out (by simpa using hne)
    have hkl2 : kb < wr.heap.size := Nat.lt_of_lt_of_le hkl HG.out.size
    have hgl2 : g < wr.heap.size := Nat.lt_of_lt_of_le hgl HG.out.size
    by_cases hlt : j < n
    · have hji : (j : Int) < (n : Int) := by omega
      have hii : (i : Int) < (n : Int) := by omega
      have hjl : j < l.length := by have := HL.out; omega
      have hLn := HOr.out.len
      have hge : (keptE id (l.take j) ++ l.drop i)[j]'(by omega) = l[j] := by
        have hI := HI.out
        have h1 : (keptE id (l.take j) ++ l.drop i)[j]? = some l[j] := by
          rw [List.getElem?_append_right (by omega), hI, List.getElem?_drop, show i + (j - i) = j by omega, List.getElem?_eq_getElem hjl]
        rw [List.getElem?_eq_getElem (by omega)] at h1
        exact Option.some.inj h1
      obtain ⟨b, hab, hb, g0, g1, g2, g3, _⟩ := HOr.out.at (i := j) (by omega)
      injection hab with hab
      injection hab with e1
      subst e1
      rw [hge] at g0 g1 g2 g3
      have HNx : Hid (keptE id (l.take (j + 1)) = keptE id (l.take j) ++ (if decide ((l[j]).u.id = id) then [] else [l[j]])) := keptE_next hjl
      clear hge hLn
      generalize l[j] = x at *
      have HBa : Hid (Below wr.heap.size wr (wr.alloc (.cells #[.string x.u.id, .int .i64 x.u.want, .slice x.a x.n x.c, .bool x.u.done] 30))) := (Below.refl _ _).alloc (Nat.le_refl _) _
      have HXa : Hid (BoxN (wr.alloc (.cells #[.string x.u.id, .int .i64 x.u.want, .slice x.a x.n x.c, .bool x.u.done] 30)) wr.heap.size 30 [.string x.u.id, .int .i64 x.u.want, .slice x.a x.n x.c, .bool x.u.done]) := BoxN.new _ _ _
      have HKa : Hid ((wr.alloc (.cells #[.string x.u.id, .int .i64 x.u.want, .slice x.a x.n x.c, .bool x.u.done] 30)).cell? ⟨kb, 0, none⟩ = some (.string id)) := (HBa.out.cell (p := ⟨kb, 0, none⟩) hkl2).trans hkc
      have eg : ∀ (args : Array Value) (w : World), Sem.run Tryd.prog (callFunc 66 args) w = .ok (.enter 66 args) w := enters_of Tryd.func66 (by kernel_rfl) rfl
      clear hkc
      go_wp2_with fail
      refine (implDelU_any x id kb _ HKa.out).mono ?_
      rintro e w3 ⟨rfl, hb3⟩
      have HB3 : Hid (Below wr.heap.size wr w3) := HBa.out.trans (hb3.mono HBa.out.size)
      have hx3 := HXa.out.stays hb3
      have HO3 : Hid (OwnU w3 base (some ⟨g, 0, none⟩) n C (keptE id (l.take j) ++ l.drop i)) := HOr.out.below HB3.out
      have HG3 : Hid (w.grownBy w3 (some g)) := ⟨HB3.out.os.trans HG.out.os, HB3.out.tape.trans HG.out.tape, HB3.out.output.trans HG.out.output, Nat.le_trans HG.out.size HB3.out.size, fun z hz hzn => (HB3.out.block z (Nat.lt_of_lt_of_le hz HG.out.size)).trans (HG.out.block z hz hzn)⟩
      clear hb3 HBa HKa HXa HOr HG g0 g1 g2 g3
      cases hpk : (decide (x.u.id = id))
      case true =>
        rw [hpk] at HNx
        have HN2 : Hid (keptE id (l.take (j + 1)) = keptE id (l.take j)) := by show _ = _; rw [HNx.out]; simp
        go_wp2_with fail
        go_roundw
        case rel => exact ⟨i, j + 1, rfl, by go_num, by omega, by omega, by rw [HN2.out]; exact HI.out, by rw [HN2.out]; exact HO3.out, HG3⟩
        case measure => simp [intOf]; omega
      case false =>
        rw [hpk] at HNx
        have HN2 : Hid (keptE id (l.take (j + 1)) = keptE id (l.take j) ++ [x]) := by show _ = _; rw [HNx.out]; simp
        have x0 := hx3.cell 0 rfl
        have x1 := hx3.cell 1 rfl
        have x2 := hx3.cell 2 rfl
        have x3 := hx3.cell 3 rfl
        have hil : i < l.length := by have := HL.out; omega
        have hO3 := HO3.out
        rw [List.drop_eq_getElem_cons hil] at hO3
        have hlen3 := hO3.len
        obtain ⟨b', hab, hb', g0, g1, g2, g3, hfz⟩ := hO3.at (i := i) (by omega)
        injection hab with hab
        injection hab with e1
        subst e1
        have fz0 := hfz (i * 4)
        have fz1 := hfz (i * 4 + 1)
        have fz2 := hfz (i * 4 + 2)
        have fz3 := hfz (i * 4 + 3)
        have hput := hO3.put x
        rw [HI.out] at hput
        have HO4 : Hid (OwnU ((((w3.setCell ⟨g, i * 4, none⟩ (.string x.u.id)).setCell ⟨g, i * 4 + 1, none⟩ (.int .i64 x.u.want)).setCell ⟨g, i * 4 + 2, none⟩ (.slice x.a x.n x.c)).setCell ⟨g, i * 4 + 3, none⟩ (.bool x.u.done)) base (some ⟨g, 0, none⟩) n C (keptE id (l.take (j + 1)) ++ l.drop (i + 1)) ∧ w.grownBy ((((w3.setCell ⟨g, i * 4, none⟩ (.string x.u.id)).setCell ⟨g, i * 4 + 1, none⟩ (.int .i64 x.u.want)).setCell ⟨g, i * 4 + 2, none⟩ (.slice x.a x.n x.c)).setCell ⟨g, i * 4 + 3, none⟩ (.bool x.u.done)) (some g)) := by
          refine ⟨?_, World.grownBy.trans HG3.out hput.2⟩
          rw [HN2.out, List.append_assoc]
          exact hput.1
        clear hput hO3 hfz hx3
        obtain ⟨y, hy⟩ : ∃ y, (keptE id (l.take j) ++ l[i] :: l.drop (i + 1))[i]'(by omega) = y := ⟨_, rfl⟩
        rw [hy] at g0 g1 g2 g3
        clear hy hlen3
        go_wp2_with fail
        go_roundw
        case rel => exact ⟨i + 1, j + 1, by go_num, by go_num, by omega, by omega, by rw [HN2.out, List.length_append, HI.out]; rfl, HO4.out.1, HO4.out.2⟩
        case measure => simp [intOf]; omega
    · have hjn2 : j = n := by omega
      subst hjn2
      have HKp : Hid (keptE id l = keptE id (l.take j)) := by show _ = _; rw [List.take_of_length_le (by have := HL.out; omega)]
      obtain ⟨rest, hrow, _, _, _⟩ := HOr.out.row
      have hI := HI.out
      have hl := HL.out
      obtain ⟨w4, Z, hcl, hrow4, hg4⟩ := clearU_run wr 45 0 Tryd.underlying45 g C (i * 4) (j - i) (C - i) (ueCells (keptE id (l.take j))) (ueCells (l.drop i)) rest (by rw [← ueCells_append]; exact hrow) (by rw [ueCells_len, List.length_drop, hl]) (by rw [ueCells_len, hI]) (by omega)
      have HR : Hid (OwnU w4 base (some ⟨g, 0, none⟩) i C (keptE id l) ∧ w.grownBy w4 (some g)) := by
        refine ⟨?_, World.grownBy.trans HG.out hg4⟩
        rw [HKp.out]
        exact RowU.own hrow4 hbg hCm hI
      have HLn : Hid ((keptE id l).length = i) := by show _ = _; rw [HKp.out]; exact hI
      have t1 : ¬ C = i := by omega
      have t2 : (i : Int) ≤ (j : Int) := by omega
      have t3 : (i : Int) ≤ (C : Int) := by omega
      clear hrow hrow4 hg4 hI hl hkc
      go_wp2_with fail
      go_ret
      exact ⟨by rw [HLn.out]; rfl, by rw [HLn.out]; exact HR.out.1, HR.out.2⟩

set_option maxRecDepth 10000 in
set_option maxHeartbeats 800000 in
theorem implWithoutU_any (base g n C : Nat) (l : List UE) (id : ByteArray) (K : Nat) (w : World) (ho : OwnU w base (some ⟨g, 0, none⟩) n C l) (hn : n ≤ 1048576) (hKn : K < l.length) (hkp : ∀ j (hj : j < l.length), j < K → (l[j]).u.id ≠ id) (hkK : (l[K]).u.id = id) :
    Calls Tryd.prog 52 #[.slice (some ⟨g, 0, none⟩) n C, .string id] w fun e w' => e = .returned (.slice (some ⟨g, 0, none⟩) (keptE id l).length C) ∧ OwnU w' base (some ⟨g, 0, none⟩) (keptE id l).length C (keptE id l) ∧ w.grownBy w' (some g) := by
  have HB : Hid (Below w.heap.size w (w.alloc (.cells #[.string id] 9))) := (Below.refl _ _).alloc (Nat.le_refl _) _
  have hx : (w.alloc (.cells #[.string id] 9)).cell? ⟨w.heap.size, 0, none⟩ = some (.string id) := by rw [cell_of_row _ _ _ _ _ _ (heap_alloc_new w _)]; rfl
  have hgl : g < w.heap.size := (ho.lt g rfl).2
  have HD : Hid (Calls Tryd.prog 65 #[.slice (some ⟨g, 0, none⟩) n C, .func (.func 66) #[] #[.pointer (some ⟨w.heap.size, 0, none⟩)]] (w.alloc (.cells #[.string id] 9)) fun e w' => e = .returned (.slice (some ⟨g, 0, none⟩) (keptE id l).length C) ∧ OwnU w' base (some ⟨g, 0, none⟩) (keptE id l).length C (keptE id l) ∧ (w.alloc (.cells #[.string id] 9)).grownBy w' (some g)) :=
    delU_any base g n C l id w.heap.size K _ (ho.below HB.out) hx (by omega) hn hKn hkp hkK
  clear ho hx hkp hkK
  generalize keptE id l = kl at *
  go_enter Tryd.func52, Tryd.ntmps52
  go_wp2_with fail
  refine HD.out.mono ?_
  rintro e w5 ⟨rfl, ho5, hg5⟩
  have HR : Hid (OwnU w5 base (some ⟨g, 0, none⟩) kl.length C kl ∧ w.grownBy w5 (some g)) := ⟨ho5, ⟨hg5.os.trans HB.out.os, hg5.tape.trans HB.out.tape, hg5.output.trans HB.out.output, Nat.le_trans HB.out.size hg5.size, fun j hj hne => (hg5.block j (Nat.lt_of_lt_of_le hj HB.out.size) hne).trans (HB.out.block j hj)⟩⟩
  clear ho5 hg5
  go_wp2_with fail
  go_ret
  exact ⟨rfl, HR.out.1, HR.out.2⟩

end Go.Proofs.YtogopmngbjkcjafDoor
