/- An upload written into a row. No program in it but its table of types. The library's DeleteFunc of uploads of one name, in a row of the call's own; the program's without. -/
import Derived.Test.YtiigdcpjelbdjaaGreatDoorM03
import Derived.Test.YtiigdcpjelbdjaaGreatDoorM29
import Derived.Shelf.Abstract
namespace Go.Proofs.YtiigdcpjelbdjaaGreatDoor
open Go.RowKit
set_option linter.unusedVariables false

/-- An upload is written into a row of the call's own. -/
theorem ueCells_put (M D : List UE) (e x : UE) :
    ((((ueCells (M ++ e :: D)).set (M.length * 4) (.string x.u.id)).set (M.length * 4 + 1) (.int .i64 x.u.want)).set (M.length * 4 + 2) (.slice x.a x.n x.c)).set (M.length * 4 + 3) (.bool x.u.done) = ueCells (M ++ x :: D) := by
  have hl := ueCells_len M
  rw [ueCells_append, ueCells_append, ueCells_cons, ueCells_cons]
  rw [List.set_append_right _ _ (by omega), hl, Nat.sub_self, List.set_cons_zero]
  rw [List.set_append_right _ _ (by omega), hl, show M.length * 4 + 1 - M.length * 4 = 1 by omega]
  rw [List.set_append_right _ _ (by omega), hl, show M.length * 4 + 2 - M.length * 4 = 2 by omega]
  rw [List.set_append_right _ _ (by omega), hl, show M.length * 4 + 3 - M.length * 4 = 3 by omega]
  rfl

theorem OwnU.put {w : World} {base g n C : Nat} {M D : List UE} {e : UE} (h : OwnU w base (some ⟨g, 0, none⟩) n C (M ++ e :: D)) (x : UE) :
    OwnU ((((w.setCell ⟨g, M.length * 4, none⟩ (.string x.u.id)).setCell ⟨g, M.length * 4 + 1, none⟩ (.int .i64 x.u.want)).setCell ⟨g, M.length * 4 + 2, none⟩ (.slice x.a x.n x.c)).setCell ⟨g, M.length * 4 + 3, none⟩ (.bool x.u.done)) base (some ⟨g, 0, none⟩) n C (M ++ x :: D) ∧ w.grownBy ((((w.setCell ⟨g, M.length * 4, none⟩ (.string x.u.id)).setCell ⟨g, M.length * 4 + 1, none⟩ (.int .i64 x.u.want)).setCell ⟨g, M.length * 4 + 2, none⟩ (.slice x.a x.n x.c)).setCell ⟨g, M.length * 4 + 3, none⟩ (.bool x.u.done)) (some g) := by
  have h0 : w.ownsRow base 42 4 (.slice (some ⟨g, 0, none⟩) n C) n (ueCells (M ++ e :: D)) := h
  have h1 := h0.stored (M.length * 4) (.string x.u.id)
  have h2 := h1.1.stored (M.length * 4 + 1) (.int .i64 x.u.want)
  have h3 := h2.1.stored (M.length * 4 + 2) (.slice x.a x.n x.c)
  have h4 := h3.1.stored (M.length * 4 + 3) (.bool x.u.done)
  have h5 := h4.1
  rw [ueCells_put] at h5
  exact ⟨h5, World.grownBy.trans (World.grownBy.trans (World.grownBy.trans h1.2 h2.2) h3.2) h4.2⟩

end Go.Proofs.YtiigdcpjelbdjaaGreatDoor

namespace Go.Proofs.YtiigdcpjelbdjaaGreatDoor
open Go.RowKit
set_option linter.unusedVariables false

set_option maxRecDepth 10000 in
set_option maxHeartbeats 800000 in
theorem implDelU_any (x : UE) (id : ByteArray) (kb : Nat) (w : World) (h : w.cell? ⟨kb, 0, none⟩ = some (.string id)) : Calls Tryz.prog 110 #[.agg #[.string x.u.id, .int .i64 x.u.want, .slice x.a x.n x.c, .bool x.u.done], .pointer (some ⟨kb, 0, none⟩)] w fun e w' => e = .returned (.bool (decide (x.u.id = id))) ∧ Below w.heap.size w w' := by
  have hkb : kb < w.heap.size := lt_of_cell h
  have HB : Hid (Below w.heap.size w (w.alloc (.cells #[.string x.u.id, .int .i64 x.u.want, .slice x.a x.n x.c, .bool x.u.done] 42))) := (Below.refl _ _).alloc (Nat.le_refl _) _
  have hx : BoxN (w.alloc (.cells #[.string x.u.id, .int .i64 x.u.want, .slice x.a x.n x.c, .bool x.u.done] 42)) w.heap.size 42 [.string x.u.id, .int .i64 x.u.want, .slice x.a x.n x.c, .bool x.u.done] := BoxN.new _ _ _
  have hk1 : (w.alloc (.cells #[.string x.u.id, .int .i64 x.u.want, .slice x.a x.n x.c, .bool x.u.done] 42)).cell? ⟨kb, 0, none⟩ = some (.string id) := (HB.out.cell (p := ⟨kb, 0, none⟩) hkb).trans h
  have m1 := keyMU x.u.id x.u.want x.a x.n x.c x.u.done
  have he := ids_eq x.u.id id
  go_enter Tryz.func110, Tryz.ntmps110
  go_wp2_with fail
  obtain ⟨w1, hw1⟩ : ∃ w1, w.alloc (.cells #[.string x.u.id, .int .i64 x.u.want, .slice x.a x.n x.c, .bool x.u.done] 42) = w1 := ⟨_, rfl⟩
  rw [hw1] at hx hk1 HB ⊢
  clear hw1
  have hlt : w.heap.size < w1.heap.size := hx.lt
  have hne := past_some w1
  have y0 : ∀ P : Past w1, P.world.cell? ⟨w.heap.size, 0, none⟩ = some (.string x.u.id) := fun P => P.cell hlt (hx.cell 0 rfl)
  have y1 : ∀ P : Past w1, P.world.cell? ⟨w.heap.size, 1, none⟩ = some (.int .i64 x.u.want) := fun P => P.cell hlt (hx.cell 1 rfl)
  have y2 : ∀ P : Past w1, P.world.cell? ⟨w.heap.size, 2, none⟩ = some (.slice x.a x.n x.c) := fun P => P.cell hlt (hx.cell 2 rfl)
  have y3 : ∀ P : Past w1, P.world.cell? ⟨w.heap.size, 3, none⟩ = some (.bool x.u.done) := fun P => P.cell hlt (hx.cell 3 rfl)
  have y4 : ∀ P : Past w1, P.world.cell? ⟨kb, 0, none⟩ = some (.string id) := fun P => P.cell (by show kb < _; omega) hk1
  clear hk1 hx h
  refine wp_region_past (by kernel_rfl) (by kernel_rfl) ?_
  repeat (quiet_step ((first | (go_at_call 135; exact calls_past (implKeyU_any _ _ _ _ _ _ _)) | fail)))
  refine wpQuiet_nil ?_
  rintro _ ⟨z, rfl⟩
  have HZ : Hid (Below w.heap.size w z.world) := HB.out.trans (z.below.mono HB.out.size)
  go_wp2_with fail
  go_ret
  exact ⟨rfl, HZ.out⟩

set_option maxRecDepth 10000 in
set_option maxHeartbeats 800000 in
theorem implIdxU_any (base : Nat) (a : Option Addr) (len cap : Nat) (l : List UE) (g : Nat) (cb : Array Value) (pr : UE → Bool) (w : World) (eg : ∀ (args : Array Value) (w : World), Sem.run Tryz.prog (callFunc g args) w = .ok (.enter g args) w) (hs : OwnU w base a len cap l) (hl : len ≤ 1099511627776)
    (hp : ∀ (x : UE) W, Below w.heap.size w W → Calls Tryz.prog g (#[.agg #[.string x.u.id, .int .i64 x.u.want, .slice x.a x.n x.c, .bool x.u.done]] ++ cb) W fun e w' => e = .returned (.bool (pr x)) ∧ Below W.heap.size W w') (K : Nat) (hK : K < l.length) (hpK : pr l[K] = true) (hpj : ∀ j (hj : j < l.length), j < K → pr l[j] = false) :
    Calls Tryz.prog 117 #[.slice a len cap, .func (.func g) #[] cb] w fun e w' => e = .returned (.int .i64 (K : Int)) ∧ Below w.heap.size w w' := by
  have HL : Hid (l.length = len) := hs.len
  have HS : Hid (OwnU w base a len cap l) := hs
  have HP : Hid (∀ (x : UE) W, Below w.heap.size w W → Calls Tryz.prog g (#[.agg #[.string x.u.id, .int .i64 x.u.want, .slice x.a x.n x.c, .bool x.u.done]] ++ cb) W fun e w' => e = .returned (.bool (pr x)) ∧ Below W.heap.size W w') := hp
  have HK : Hid (pr l[K] = true) := hpK
  have HJ : Hid (∀ j (hj : j < l.length), j < K → pr l[j] = false) := hpj
  clear hs hp hpK hpj
  have hKl : K < len := by have := HL.out; omega
  go_enter Tryz.func117, Tryz.ntmps117
  go_wp2_with fail
  go_loopw [8] (fun v wr => ∃ k : Nat, k ≤ K ∧ v = .int .i64 k ∧ Hid (Below w.heap.size w wr)) (fun v _ => len - (intOf v).toNat)
  case atStart => exact ⟨0, Nat.zero_le _, rfl, Below.refl _ _⟩
  case round =>
    obtain ⟨k, hk, rfl, HB⟩ := hrel
    have hlt : k < len := by omega
    have hkl : k < l.length := by have := HL.out; omega
    have hki : (k : Int) < (len : Int) := by omega
    obtain ⟨b, rfl, hb, g0, g1, g2, g3, _⟩ := (HS.out.below HB.out).at hkl
    by_cases hkK : k = K
    · subst hkK
      have HPk := HK
      generalize l[k] = x at *
      have hpr : pr x = true := HPk.out
      clear HPk HK
      go_wp2_with fail
      refine (HP.out x _ HB.out).mono ?_
      rintro e w1 ⟨rfl, hb1⟩
      have HB1 : Hid (Below w.heap.size w w1) := HB.out.trans (hb1.mono HB.out.size)
      clear hb1
      rw [hpr]
      go_wp2_with fail
      go_ret
      exact ⟨rfl, HB1.out⟩
    · have hpr : pr l[k] = false := HJ.out k hkl (by omega)
      generalize l[k] = x at *
      go_wp2_with fail
      refine (HP.out x _ HB.out).mono ?_
      rintro e w1 ⟨rfl, hb1⟩
      have HB1 : Hid (Below w.heap.size w w1) := HB.out.trans (hb1.mono HB.out.size)
      clear hb1
      rw [hpr]
      go_wp2_with fail
      go_roundw
      case rel => exact ⟨k + 1, by omega, by go_num, HB1⟩
      case measure => simp [intOf]; omega

/-- What is kept of the first uploads. -/
def keptE (id : ByteArray) (l : List UE) : List UE := l.filter fun s => !decide (s.u.id = id)

theorem keptE_map (id : ByteArray) (l : List UE) : (keptE id l).map UE.u = keptU (l.map UE.u) id := by
  rw [keptE, keptU, List.filter_map]
  rfl

theorem keptE_take_all {id : ByteArray} {l : List UE} {K : Nat} (h : ∀ j (hj : j < l.length), j < K → (l[j]).u.id ≠ id) : keptE id (l.take K) = l.take K := by
  unfold keptE
  rw [List.filter_eq_self]
  intro s hs
  obtain ⟨j, hj, rfl⟩ := List.mem_iff_getElem.1 hs
  rw [List.length_take] at hj
  rw [List.getElem_take]
  simpa using h j (by omega) (by omega)

theorem keptE_next {id : ByteArray} {l : List UE} {j : Nat} (h : j < l.length) : keptE id (l.take (j + 1)) = keptE id (l.take j) ++ (if decide ((l[j]).u.id = id) then [] else [l[j]]) := by
  unfold keptE
  rw [List.take_succ_eq_append_getElem h, List.filter_append]
  congr 1
  by_cases e : (l[j]).u.id = id
  · simp [e]
  · simp [e]

set_option maxRecDepth 10000 in
set_option maxHeartbeats 1600000 in
theorem delU_any (base g n C : Nat) (l : List UE) (id : ByteArray) (kb K : Nat) (w : World) (ho : OwnU w base (some ⟨g, 0, none⟩) n C l) (hkb : w.cell? ⟨kb, 0, none⟩ = some (.string id)) (hne : kb ≠ g) (hn : n ≤ 1048576) (hKn : K < l.length) (hkp : ∀ j (hj : j < l.length), j < K → (l[j]).u.id ≠ id) (hkK : (l[K]).u.id = id) :
    Calls Tryz.prog 109 #[.slice (some ⟨g, 0, none⟩) n C, .func (.func 110) #[] #[.pointer (some ⟨kb, 0, none⟩)]] w fun e w' => e = .returned (.slice (some ⟨g, 0, none⟩) (keptE id l).length C) ∧ OwnU w' base (some ⟨g, 0, none⟩) (keptE id l).length C (keptE id l) ∧ w.grownBy w' (some g) := by
  have hkl : kb < w.heap.size := lt_of_cell hkb
  have hgl : g < w.heap.size := (ho.lt g rfl).2
  have HIx : Hid (Calls Tryz.prog 117 #[.slice (some ⟨g, 0, none⟩) n C, .func (.func 110) #[] #[.pointer (some ⟨kb, 0, none⟩)]] w fun e w' => e = .returned (.int .i64 (K : Int)) ∧ Below w.heap.size w w') :=
    implIdxU_any base (some ⟨g, 0, none⟩) n C l 110 #[.pointer (some ⟨kb, 0, none⟩)] (fun x => decide (x.u.id = id)) w (enters_of Tryz.func110 (by kernel_rfl) rfl) ho (by omega) (fun x W hb => implDelU_any x id kb W ((hb.cell (p := ⟨kb, 0, none⟩) hkl).trans hkb)) K hKn (decide_eq_true hkK) (fun j hj hjK => decide_eq_false (hkp j hj hjK))
  have HL : Hid (l.length = n) := ho.len
  have hKn2 : K < n := by have := HL.out; omega
  have HT : Hid (keptE id (l.take (K + 1)) = l.take K) := by
    show _ = _
    rw [keptE_next hKn, keptE_take_all hkp, hkK]
    simp
  have HO : Hid (OwnU w base (some ⟨g, 0, none⟩) n C l) := ho
  have HKb : Hid (w.cell? ⟨kb, 0, none⟩ = some (.string id)) := hkb
  have hnC : n ≤ C := by obtain ⟨_, _, _, h, _⟩ := ho.row; exact h
  have hCm : C ≤ maxLen := by obtain ⟨_, _, _, _, h⟩ := ho.row; exact h
  have hbg : base ≤ g := (ho.lt g rfl).1
  clear ho hkb hkp hkK
  go_enter Tryz.func109, Tryz.ntmps109
  go_wp2_with fail
  refine HIx.out.mono ?_
  rintro e w1 ⟨rfl, hb1⟩
  have HB1 : Hid (Below w.heap.size w w1) := hb1
  clear hb1 HIx
  have hK1 : ((K : Int) == -1) = false := by simp
  go_wp2_with fail
  go_loopw [5, 6, 7] (fun vi vj _ wr => ∃ i j : Nat, vi = .int .i64 i ∧ vj = .int .i64 j ∧ i < j ∧ j ≤ n ∧ Hid ((keptE id (l.take j)).length = i) ∧ Hid (OwnU wr base (some ⟨g, 0, none⟩) n C (keptE id (l.take j) ++ l.drop i)) ∧ Hid (w.grownBy wr (some g))) (fun _ vj _ _ => n - (intOf vj).toNat)
  case atStart => exact ⟨K, K + 1, rfl, by go_num, by omega, by omega, by show _ = _; rw [HT.out, List.length_take]; omega, by rw [HT.out, List.take_append_drop]; exact HO.out.below HB1.out, ⟨HB1.out.os, HB1.out.tape, HB1.out.output, HB1.out.size, fun j hj _ => HB1.out.block j hj⟩⟩
  case round =>
    obtain ⟨i, j, rfl, rfl, hij, hjn, HI, HOr, HG⟩ := hrel
    have hkc : wr.cell? ⟨kb, 0, none⟩ = some (.string id) := HG.out.cell HKb.out (by simpa using hne)
    have hkl2 : kb < wr.heap.size := Nat.lt_of_lt_of_le hkl HG.out.size
    have hgl2 : g < wr.heap.size := Nat.lt_of_lt_of_le hgl HG.out.size
    by_cases hlt : j < n
    · have hji : (j : Int) < (n : Int) := by omega
      have hii : (i : Int) < (n : Int) := by omega
      have hjl : j < l.length := by have := HL.out; omega
      have hLn := HOr.out.len
      have hge : (keptE id (l.take j) ++ l.drop i)[j]'(by omega) = l[j] := by
        have hI := HI.out
        have h1 : (keptE id (l.take j) ++ l.drop i)[j]? = some l[j] := by
          rw [List.getElem?_append_right (by omega), hI, List.getElem?_drop, show i + (j - i) = j by omega, List.getElem?_eq_getElem hjl]
        rw [List.getElem?_eq_getElem (by omega)] at h1
        exact Option.some.inj h1
      obtain ⟨b, hab, hb, g0, g1, g2, g3, _⟩ := HOr.out.at (i := j) (by omega)
      injection hab with hab
      injection hab with e1
      subst e1
      rw [hge] at g0 g1 g2 g3
      have HNx : Hid (keptE id (l.take (j + 1)) = keptE id (l.take j) ++ (if decide ((l[j]).u.id = id) then [] else [l[j]])) := keptE_next hjl
      clear hge hLn
      generalize l[j] = x at *
      have HBa : Hid (Below wr.heap.size wr (wr.alloc (.cells #[.string x.u.id, .int .i64 x.u.want, .slice x.a x.n x.c, .bool x.u.done] 42))) := (Below.refl _ _).alloc (Nat.le_refl _) _
      have HXa : Hid (BoxN (wr.alloc (.cells #[.string x.u.id, .int .i64 x.u.want, .slice x.a x.n x.c, .bool x.u.done] 42)) wr.heap.size 42 [.string x.u.id, .int .i64 x.u.want, .slice x.a x.n x.c, .bool x.u.done]) := BoxN.new _ _ _
      have HKa : Hid ((wr.alloc (.cells #[.string x.u.id, .int .i64 x.u.want, .slice x.a x.n x.c, .bool x.u.done] 42)).cell? ⟨kb, 0, none⟩ = some (.string id)) := (HBa.out.cell (p := ⟨kb, 0, none⟩) hkl2).trans hkc
      have eg : ∀ (args : Array Value) (w : World), Sem.run Tryz.prog (callFunc 110 args) w = .ok (.enter 110 args) w := enters_of Tryz.func110 (by kernel_rfl) rfl
      clear hkc
      go_wp2_with fail
      refine (implDelU_any x id kb _ HKa.out).mono ?_
      rintro e w3 ⟨rfl, hb3⟩
      have HB3 : Hid (Below wr.heap.size wr w3) := HBa.out.trans (hb3.mono HBa.out.size)
      have hx3 := HXa.out.stays hb3
      have HO3 : Hid (OwnU w3 base (some ⟨g, 0, none⟩) n C (keptE id (l.take j) ++ l.drop i)) := HOr.out.below HB3.out
      have HG3 : Hid (w.grownBy w3 (some g)) := ⟨HB3.out.os.trans HG.out.os, HB3.out.tape.trans HG.out.tape, HB3.out.output.trans HG.out.output, Nat.le_trans HG.out.size HB3.out.size, fun z hz hzn => (HB3.out.block z (Nat.lt_of_lt_of_le hz HG.out.size)).trans (HG.out.block z hz hzn)⟩
      clear hb3 HBa HKa HXa HOr HG g0 g1 g2 g3
      cases hpk : (decide (x.u.id = id))
      case true =>
        rw [hpk] at HNx
        have HN2 : Hid (keptE id (l.take (j + 1)) = keptE id (l.take j)) := by show _ = _; rw [HNx.out]; simp
        go_wp2_with fail
        go_roundw
        case rel => exact ⟨i, j + 1, rfl, by go_num, by omega, by omega, by rw [HN2.out]; exact HI.out, by rw [HN2.out]; exact HO3.out, HG3⟩
        case measure => simp [intOf]; omega
      case false =>
        rw [hpk] at HNx
        have HN2 : Hid (keptE id (l.take (j + 1)) = keptE id (l.take j) ++ [x]) := by show _ = _; rw [HNx.out]; simp
        have x0 := hx3.cell 0 rfl
        have x1 := hx3.cell 1 rfl
        have x2 := hx3.cell 2 rfl
        have x3 := hx3.cell 3 rfl
        have hil : i < l.length := by have := HL.out; omega
        have hO3 := HO3.out
        rw [List.drop_eq_getElem_cons hil] at hO3
        have hlen3 := hO3.len
        obtain ⟨b', hab, hb', g0, g1, g2, g3, hfz⟩ := hO3.at (i := i) (by omega)
        injection hab with hab
        injection hab with e1
        subst e1
        have fz0 := hfz (i * 4)
        have fz1 := hfz (i * 4 + 1)
        have fz2 := hfz (i * 4 + 2)
        have fz3 := hfz (i * 4 + 3)
        have hput := hO3.put x
        rw [HI.out] at hput
        have HO4 : Hid (OwnU ((((w3.setCell ⟨g, i * 4, none⟩ (.string x.u.id)).setCell ⟨g, i * 4 + 1, none⟩ (.int .i64 x.u.want)).setCell ⟨g, i * 4 + 2, none⟩ (.slice x.a x.n x.c)).setCell ⟨g, i * 4 + 3, none⟩ (.bool x.u.done)) base (some ⟨g, 0, none⟩) n C (keptE id (l.take (j + 1)) ++ l.drop (i + 1)) ∧ w.grownBy ((((w3.setCell ⟨g, i * 4, none⟩ (.string x.u.id)).setCell ⟨g, i * 4 + 1, none⟩ (.int .i64 x.u.want)).setCell ⟨g, i * 4 + 2, none⟩ (.slice x.a x.n x.c)).setCell ⟨g, i * 4 + 3, none⟩ (.bool x.u.done)) (some g)) := by
          refine ⟨?_, World.grownBy.trans HG3.out hput.2⟩
          rw [HN2.out, List.append_assoc]
          exact hput.1
        clear hput hO3 hfz hx3
        obtain ⟨y, hy⟩ : ∃ y, (keptE id (l.take j) ++ l[i] :: l.drop (i + 1))[i]'(by omega) = y := ⟨_, rfl⟩
        rw [hy] at g0 g1 g2 g3
        clear hy hlen3
        go_wp2_with fail
        go_roundw
        case rel => exact ⟨i + 1, j + 1, by go_num, by go_num, by omega, by omega, by rw [HN2.out, List.length_append, HI.out]; rfl, HO4.out.1, HO4.out.2⟩
        case measure => simp [intOf]; omega
    · have hjn2 : j = n := by omega
      subst hjn2
      have HKp : Hid (keptE id l = keptE id (l.take j)) := by show _ = _; rw [List.take_of_length_le (by have := HL.out; omega)]
      obtain ⟨rest, hrow, _, _, _⟩ := HOr.out.row
      have hI := HI.out
      have hl := HL.out
      obtain ⟨w4, Z, hcl, hrow4, hg4⟩ := clearU_run wr 91 0 Tryz.underlying91 g C (i * 4) (j - i) (C - i) (ueCells (keptE id (l.take j))) (ueCells (l.drop i)) rest (by rw [← ueCells_append]; exact hrow) (by rw [ueCells_len, List.length_drop, hl]) (by rw [ueCells_len, hI]) (by omega)
      have HR : Hid (OwnU w4 base (some ⟨g, 0, none⟩) i C (keptE id l) ∧ w.grownBy w4 (some g)) := by
        refine ⟨?_, World.grownBy.trans HG.out hg4⟩
        rw [HKp.out]
        exact RowU.own hrow4 hbg hCm hI
      have HLn : Hid ((keptE id l).length = i) := by show _ = _; rw [HKp.out]; exact hI
      have t1 : ¬ C = i := by omega
      have t2 : (i : Int) ≤ (j : Int) := by omega
      have t3 : (i : Int) ≤ (C : Int) := by omega
      clear hrow hrow4 hg4 hI hl hkc
      go_wp2_with fail
      go_ret
      exact ⟨by rw [HLn.out]; rfl, by rw [HLn.out]; exact HR.out.1, HR.out.2⟩

set_option maxRecDepth 10000 in
set_option maxHeartbeats 800000 in
theorem implWithoutU_any (base g n C : Nat) (l : List UE) (id : ByteArray) (K : Nat) (w : World) (ho : OwnU w base (some ⟨g, 0, none⟩) n C l) (hn : n ≤ 1048576) (hKn : K < l.length) (hkp : ∀ j (hj : j < l.length), j < K → (l[j]).u.id ≠ id) (hkK : (l[K]).u.id = id) :
    Calls Tryz.prog 101 #[.slice (some ⟨g, 0, none⟩) n C, .string id] w fun e w' => e = .returned (.slice (some ⟨g, 0, none⟩) (keptE id l).length C) ∧ OwnU w' base (some ⟨g, 0, none⟩) (keptE id l).length C (keptE id l) ∧ w.grownBy w' (some g) := by
  have HB : Hid (Below w.heap.size w (w.alloc (.cells #[.string id] 9))) := (Below.refl _ _).alloc (Nat.le_refl _) _
  have hx : (w.alloc (.cells #[.string id] 9)).cell? ⟨w.heap.size, 0, none⟩ = some (.string id) := by rw [cell_of_row _ _ _ _ _ _ (heap_alloc_new w _)]; rfl
  have hgl : g < w.heap.size := (ho.lt g rfl).2
  have HD : Hid (Calls Tryz.prog 109 #[.slice (some ⟨g, 0, none⟩) n C, .func (.func 110) #[] #[.pointer (some ⟨w.heap.size, 0, none⟩)]] (w.alloc (.cells #[.string id] 9)) fun e w' => e = .returned (.slice (some ⟨g, 0, none⟩) (keptE id l).length C) ∧ OwnU w' base (some ⟨g, 0, none⟩) (keptE id l).length C (keptE id l) ∧ (w.alloc (.cells #[.string id] 9)).grownBy w' (some g)) :=
    delU_any base g n C l id w.heap.size K _ (ho.below HB.out) hx (by omega) hn hKn hkp hkK
  clear ho hx hkp hkK
  generalize keptE id l = kl at *
  go_enter Tryz.func101, Tryz.ntmps101
  go_wp2_with fail
  refine HD.out.mono ?_
  rintro e w5 ⟨rfl, ho5, hg5⟩
  have HR : Hid (OwnU w5 base (some ⟨g, 0, none⟩) kl.length C kl ∧ w.grownBy w5 (some g)) := ⟨ho5, ⟨hg5.os.trans HB.out.os, hg5.tape.trans HB.out.tape, hg5.output.trans HB.out.output, Nat.le_trans HB.out.size hg5.size, fun j hj hne => (hg5.block j (Nat.lt_of_lt_of_le hj HB.out.size) hne).trans (HB.out.block j hj)⟩⟩
  clear ho5 hg5
  go_wp2_with fail
  go_ret
  exact ⟨rfl, HR.out.1, HR.out.2⟩

end Go.Proofs.YtiigdcpjelbdjaaGreatDoor
