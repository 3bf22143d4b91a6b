/- The library's DeleteFunc of uploads of one name, in a row of the call's own; the program's without. A region that draws its order: operations that only read and callees that leave all that was there, and behind all of them a few that come one by one: walked once, in the order of the text. No program in it. -/
import Derived.Test.YtclkfjlnhcccdaaGreatDoorM32
import Derived.Test.YtclkfjlnhcccdaaGreatDoorM05
import Derived.Shelf.Abstract
import Derived.Test.YtclkfjlnhcccdaaGreatDoorM06
import Derived.StillTail
namespace Go.Proofs.YtclkfjlnhcccdaaGreatDoor
open Go.RowKit
set_option linter.unusedVariables false

set_option maxRecDepth 10000 in
set_option maxHeartbeats 800000 in
theorem implDelU_any (x : UE) (id : ByteArray) (kb : Nat) (w : World) (h : w.cell? ⟨kb, 0, none⟩ = some (.string id)) : Calls Tryz.prog 139 #[.agg #[.string x.u.id, .int .i64 x.u.want, .slice x.a x.n x.c, .bool x.u.done], .pointer (some ⟨kb, 0, none⟩)] w fun e w' => e = .returned (.bool (decide (x.u.id = id))) ∧ Below w.heap.size w w' := by
  have hkb : kb < w.heap.size := lt_of_cell h
  have HB : Hid (Below w.heap.size w (w.alloc (.cells #[.string x.u.id, .int .i64 x.u.want, .slice x.a x.n x.c, .bool x.u.done] 112))) := (Below.refl _ _).alloc (Nat.le_refl _) _
  have hx : BoxN (w.alloc (.cells #[.string x.u.id, .int .i64 x.u.want, .slice x.a x.n x.c, .bool x.u.done] 112)) w.heap.size 112 [.string x.u.id, .int .i64 x.u.want, .slice x.a x.n x.c, .bool x.u.done] := BoxN.new _ _ _
  have hk1 : (w.alloc (.cells #[.string x.u.id, .int .i64 x.u.want, .slice x.a x.n x.c, .bool x.u.done] 112)).cell? ⟨kb, 0, none⟩ = some (.string id) := (HB.out.cell (p := ⟨kb, 0, none⟩) hkb).trans h
  have m1 := keyMU x.u.id x.u.want x.a x.n x.c x.u.done
  have he := ids_eq x.u.id id
  go_enter Tryz.func139, Tryz.ntmps139
  go_wp2_with fail
  obtain ⟨w1, hw1⟩ : ∃ w1, w.alloc (.cells #[.string x.u.id, .int .i64 x.u.want, .slice x.a x.n x.c, .bool x.u.done] 112) = w1 := ⟨_, rfl⟩
  rw [hw1] at hx hk1 HB ⊢
  clear hw1
  have hlt : w.heap.size < w1.heap.size := hx.lt
  have hne := past_some w1
  have y0 : ∀ P : Past w1, P.world.cell? ⟨w.heap.size, 0, none⟩ = some (.string x.u.id) := fun P => P.cell hlt (hx.cell 0 rfl)
  have y1 : ∀ P : Past w1, P.world.cell? ⟨w.heap.size, 1, none⟩ = some (.int .i64 x.u.want) := fun P => P.cell hlt (hx.cell 1 rfl)
  have y2 : ∀ P : Past w1, P.world.cell? ⟨w.heap.size, 2, none⟩ = some (.slice x.a x.n x.c) := fun P => P.cell hlt (hx.cell 2 rfl)
  have y3 : ∀ P : Past w1, P.world.cell? ⟨w.heap.size, 3, none⟩ = some (.bool x.u.done) := fun P => P.cell hlt (hx.cell 3 rfl)
  have y4 : ∀ P : Past w1, P.world.cell? ⟨kb, 0, none⟩ = some (.string id) := fun P => P.cell (by show kb < _; omega) hk1
  clear hk1 hx h
  refine wp_region_past (by kernel_rfl) (by kernel_rfl) ?_
  repeat (quiet_step ((first | (go_at_call 161; exact calls_past (implKeyU_any _ _ _ _ _ _ _)) | fail)))
  refine wpQuiet_nil ?_
  rintro _ ⟨z, rfl⟩
  have HZ : Hid (Below w.heap.size w z.world) := HB.out.trans (z.below.mono HB.out.size)
  go_wp2_with fail
  go_ret
  exact ⟨rfl, HZ.out⟩

set_option maxRecDepth 10000 in
set_option maxHeartbeats 800000 in
theorem implIdxU_any (base : Nat) (a : Option Addr) (len cap : Nat) (l : List UE) (g : Nat) (cb : Array Value) (pr : UE → Bool) (w : World) (eg : ∀ (args : Array Value) (w : World), Sem.run Tryz.prog (callFunc g args) w = .ok (.enter g args) w) (hs : OwnU w base a len cap l) (hl : len ≤ 1099511627776)
    (hp : ∀ (x : UE) W, Below w.heap.size w W → Calls Tryz.prog g (#[.agg #[.string x.u.id, .int .i64 x.u.want, .slice x.a x.n x.c, .bool x.u.done]] ++ cb) W fun e w' => e = .returned (.bool (pr x)) ∧ Below W.heap.size W w') (K : Nat) (hK : K < l.length) (hpK : pr l[K] = true) (hpj : ∀ j (hj : j < l.length), j < K → pr l[j] = false) :
    Calls Tryz.prog 142 #[.slice a len cap, .func (.func g) #[] cb] w fun e w' => e = .returned (.int .i64 (K : Int)) ∧ Below w.heap.size w w' := by
  have HL : Hid (l.length = len) := hs.len
  have HS : Hid (OwnU w base a len cap l) := hs
  have HP : Hid (∀ (x : UE) W, Below w.heap.size w W → Calls Tryz.prog g (#[.agg #[.string x.u.id, .int .i64 x.u.want, .slice x.a x.n x.c, .bool x.u.done]] ++ cb) W fun e w' => e = .returned (.bool (pr x)) ∧ Below W.heap.size W w') := hp
  have HK : Hid (pr l[K] = true) := hpK
  have HJ : Hid (∀ j (hj : j < l.length), j < K → pr l[j] = false) := hpj
  clear hs hp hpK hpj
  have hKl : K < len := by have := HL.out; omega
  go_enter Tryz.func142, Tryz.ntmps142
  go_wp2_with fail
  go_loopw [8] (fun v wr => ∃ k : Nat, k ≤ K ∧ v = .int .i64 k ∧ Hid (Below w.heap.size w wr)) (fun v _ => len - (intOf v).toNat)
  case atStart => exact ⟨0, Nat.zero_le _, rfl, Below.refl _ _⟩
  case round =>
    obtain ⟨k, hk, rfl, HB⟩ := hrel
    have hlt : k < len := by omega
    have hkl : k < l.length := by have := HL.out; omega
    have hki : (k : Int) < (len : Int) := by omega
    obtain ⟨b, rfl, hb, g0, g1, g2, g3, _⟩ := (HS.out.below HB.out).at hkl
    by_cases hkK : k = K
    · subst hkK
      have HPk := HK
      generalize l[k] = x at *
      have hpr : pr x = true := HPk.out
      clear HPk HK
      go_wp2_with fail
      refine (HP.out x _ HB.out).mono ?_
      rintro e w1 ⟨rfl, hb1⟩
      have HB1 : Hid (Below w.heap.size w w1) := HB.out.trans (hb1.mono HB.out.size)
      clear hb1
      rw [hpr]
      go_wp2_with fail
      go_ret
      exact ⟨rfl, HB1.out⟩
    · have hpr : pr l[k] = false := HJ.out k hkl (by omega)
      generalize l[k] = x at *
      go_wp2_with fail
      refine (HP.out x _ HB.out).mono ?_
      rintro e w1 ⟨rfl, hb1⟩
      have HB1 : Hid (Below w.heap.size w w1) := HB.out.trans (hb1.mono HB.out.size)
      clear hb1
      rw [hpr]
      go_wp2_with fail
      go_roundw
      case rel => exact ⟨k + 1, by omega, by go_num, HB1⟩
      case measure => simp [intOf]; omega

/-- What is kept of the first uploads. -/
def keptE (id : ByteArray) (l : List UE) : List UE := l.filter fun s => !decide (s.u.id = id)

theorem keptE_map (id : ByteArray) (l : List UE) : (keptE id l).map UE.u = keptU (l.map UE.u) id := by
  rw [keptE, keptU, List.filter_map]
  rfl

theorem keptE_take_all {id : ByteArray} {l : List UE} {K : Nat} (h : ∀ j (hj : j < l.length), j < K → (l[j]).u.id ≠ id) : keptE id (l.take K) = l.take K := by
  unfold keptE
  rw [List.filter_eq_self]
  intro s hs
  obtain ⟨j, hj, rfl⟩ := List.mem_iff_getElem.1 hs
  rw [List.length_take] at hj
  rw [List.getElem_take]
  simpa using h j (by omega) (by omega)

theorem keptE_next {id : ByteArray} {l : List UE} {j : Nat} (h : j < l.length) : keptE id (l.take (j + 1)) = keptE id (l.take j) ++ (if decide ((l[j]).u.id = id) then [] else [l[j]]) := by
  unfold keptE
  rw [List.take_succ_eq_append_getElem h, List.filter_append]
  congr 1
  by_cases e : (l[j]).u.id = id
  · simp [e]
  · simp [e]

set_option maxRecDepth 10000 in
set_option maxHeartbeats 1600000 in
theorem delU_any (base g n C : Nat) (l : List UE) (id : ByteArray) (kb K : Nat) (w : World) (ho : OwnU w base (some ⟨g, 0, none⟩) n C l) (hkb : w.cell? ⟨kb, 0, none⟩ = some (.string id)) (hne : kb ≠ g) (hn : n ≤ 1048576) (hKn : K < l.length) (hkp : ∀ j (hj : j < l.length), j < K → (l[j]).u.id ≠ id) (hkK : (l[K]).u.id = id) :
    Calls Tryz.prog 138 #[.slice (some ⟨g, 0, none⟩) n C, .func (.func 139) #[] #[.pointer (some ⟨kb, 0, none⟩)]] w fun e w' => e = .returned (.slice (some ⟨g, 0, none⟩) (keptE id l).length C) ∧ OwnU w' base (some ⟨g, 0, none⟩) (keptE id l).length C (keptE id l) ∧ w.grownBy w' (some g) := by
  have hkl : kb < w.heap.size := lt_of_cell hkb
  have hgl : g < w.heap.size := (ho.lt g rfl).2
  have HIx : Hid (Calls Tryz.prog 142 #[.slice (some ⟨g, 0, none⟩) n C, .func (.func 139) #[] #[.pointer (some ⟨kb, 0, none⟩)]] w fun e w' => e = .returned (.int .i64 (K : Int)) ∧ Below w.heap.size w w') :=
    implIdxU_any base (some ⟨g, 0, none⟩) n C l 139 #[.pointer (some ⟨kb, 0, none⟩)] (fun x => decide (x.u.id = id)) w (enters_of Tryz.func139 (by kernel_rfl) rfl) ho (by omega) (fun x W hb => implDelU_any x id kb W ((hb.cell (p := ⟨kb, 0, none⟩) hkl).trans hkb)) K hKn (decide_eq_true hkK) (fun j hj hjK => decide_eq_false (hkp j hj hjK))
  have HL : Hid (l.length = n) := ho.len
  have hKn2 : K < n := by have := HL.out; omega
  have HT : Hid (keptE id (l.take (K + 1)) = l.take K) := by
    show _ = _
    rw [keptE_next hKn, keptE_take_all hkp, hkK]
    simp
  have HO : Hid (OwnU w base (some ⟨g, 0, none⟩) n C l) := ho
  have HKb : Hid (w.cell? ⟨kb, 0, none⟩ = some (.string id)) := hkb
  have hnC : n ≤ C := by obtain ⟨_, _, _, h, _⟩ := ho.row; exact h
  have hCm : C ≤ maxLen := by obtain ⟨_, _, _, _, h⟩ := ho.row; exact h
  have hbg : base ≤ g := (ho.lt g rfl).1
  clear ho hkb hkp hkK
  go_enter Tryz.func138, Tryz.ntmps138
  go_wp2_with fail
  refine HIx.out.mono ?_
  rintro e w1 ⟨rfl, hb1⟩
  have HB1 : Hid (Below w.heap.size w w1) := hb1
  clear hb1 HIx
  have hK1 : ((K : Int) == -1) = false := by simp
  go_wp2_with fail
  go_loopw [5, 6, 7] (fun vi vj _ wr => ∃ i j : Nat, vi = .int .i64 i ∧ vj = .int .i64 j ∧ i < j ∧ j ≤ n ∧ Hid ((keptE id (l.take j)).length = i) ∧ Hid (OwnU wr base (some ⟨g, 0, none⟩) n C (keptE id (l.take j) ++ l.drop i)) ∧ Hid (w.grownBy wr (some g))) (fun _ vj _ _ => n - (intOf vj).toNat)
  case atStart => exact ⟨K, K + 1, rfl, by go_num, by omega, by omega, by show _ = _; rw [HT.out, List.length_take]; omega, by rw [HT.out, List.take_append_drop]; exact HO.out.below HB1.out, ⟨HB1.out.os, HB1.out.tape, HB1.out.output, HB1.out.size, fun j hj _ => HB1.out.block j hj⟩⟩
  case round =>
    obtain ⟨i, j, rfl, rfl, hij, hjn, HI, HOr, HG⟩ := hrel
    have hkc : wr.cell? ⟨kb, 0, none⟩ = some (.string id) := HG.out.cell HKb.out (by simpa using hne)
    have hkl2 : kb < wr.heap.size := Nat.lt_of_lt_of_le hkl HG.out.size
    have hgl2 : g < wr.heap.size := Nat.lt_of_lt_of_le hgl HG.out.size
    by_cases hlt : j < n
    · have hji : (j : Int) < (n : Int) := by omega
      have hii : (i : Int) < (n : Int) := by omega
      have hjl : j < l.length := by have := HL.out; omega
      have hLn := HOr.out.len
      have hge : (keptE id (l.take j) ++ l.drop i)[j]'(by omega) = l[j] := by
        have hI := HI.out
        have h1 : (keptE id (l.take j) ++ l.drop i)[j]? = some l[j] := by
          rw [List.getElem?_append_right (by omega), hI, List.getElem?_drop, show i + (j - i) = j by omega, List.getElem?_eq_getElem hjl]
        rw [List.getElem?_eq_getElem (by omega)] at h1
        exact Option.some.inj h1
      obtain ⟨b, hab, hb, g0, g1, g2, g3, _⟩ := HOr.out.at (i := j) (by omega)
      injection hab with hab
      injection hab with e1
      subst e1
      rw [hge] at g0 g1 g2 g3
      have HNx : Hid (keptE id (l.take (j + 1)) = keptE id (l.take j) ++ (if decide ((l[j]).u.id = id) then [] else [l[j]])) := keptE_next hjl
      clear hge hLn
      generalize l[j] = x at *
      have HBa : Hid (Below wr.heap.size wr (wr.alloc (.cells #[.string x.u.id, .int .i64 x.u.want, .slice x.a x.n x.c, .bool x.u.done] 112))) := (Below.refl _ _).alloc (Nat.le_refl _) _
      have HXa : Hid (BoxN (wr.alloc (.cells #[.string x.u.id, .int .i64 x.u.want, .slice x.a x.n x.c, .bool x.u.done] 112)) wr.heap.size 112 [.string x.u.id, .int .i64 x.u.want, .slice x.a x.n x.c, .bool x.u.done]) := BoxN.new _ _ _
      have HKa : Hid ((wr.alloc (.cells #[.string x.u.id, .int .i64 x.u.want, .slice x.a x.n x.c, .bool x.u.done] 112)).cell? ⟨kb, 0, none⟩ = some (.string id)) := (HBa.out.cell (p := ⟨kb, 0, none⟩) hkl2).trans hkc
      have eg : ∀ (args : Array Value) (w : World), Sem.run Tryz.prog (callFunc 139 args) w = .ok (.enter 139 args) w := enters_of Tryz.func139 (by kernel_rfl) rfl
      clear hkc
      go_wp2_with fail
      refine (implDelU_any x id kb _ HKa.out).mono ?_
      rintro e w3 ⟨rfl, hb3⟩
      have HB3 : Hid (Below wr.heap.size wr w3) := HBa.out.trans (hb3.mono HBa.out.size)
      have hx3 := HXa.out.stays hb3
      have HO3 : Hid (OwnU w3 base (some ⟨g, 0, none⟩) n C (keptE id (l.take j) ++ l.drop i)) := HOr.out.below HB3.out
      have HG3 : Hid (w.grownBy w3 (some g)) := ⟨HB3.out.os.trans HG.out.os, HB3.out.tape.trans HG.out.tape, HB3.out.output.trans HG.out.output, Nat.le_trans HG.out.size HB3.out.size, fun z hz hzn => (HB3.out.block z (Nat.lt_of_lt_of_le hz HG.out.size)).trans (HG.out.block z hz hzn)⟩
      clear hb3 HBa HKa HXa HOr HG g0 g1 g2 g3
      cases hpk : (decide (x.u.id = id))
      case true =>
        rw [hpk] at HNx
        have HN2 : Hid (keptE id (l.take (j + 1)) = keptE id (l.take j)) := by show _ = _; rw [HNx.out]; simp
        go_wp2_with fail
        go_roundw
        case rel => exact ⟨i, j + 1, rfl, by go_num, by omega, by omega, by rw [HN2.out]; exact HI.out, by rw [HN2.out]; exact HO3.out, HG3⟩
        case measure => simp [intOf]; omega
      case false =>
        rw [hpk] at HNx
        have HN2 : Hid (keptE id (l.take (j + 1)) = keptE id (l.take j) ++ [x]) := by show _ = _; rw [HNx.out]; simp
        have x0 := hx3.cell 0 rfl
        have x1 := hx3.cell 1 rfl
        have x2 := hx3.cell 2 rfl
        have x3 := hx3.cell 3 rfl
        have hil : i < l.length := by have := HL.out; omega
        have hO3 := HO3.out
        rw [List.drop_eq_getElem_cons hil] at hO3
        have hlen3 := hO3.len
        obtain ⟨b', hab, hb', g0, g1, g2, g3, hfz⟩ := hO3.at (i := i) (by omega)
        injection hab with hab
        injection hab with e1
        subst e1
        have fz0 := hfz (i * 4)
        have fz1 := hfz (i * 4 + 1)
        have fz2 := hfz (i * 4 + 2)
        have fz3 := hfz (i * 4 + 3)
        have hput := hO3.put x
        rw [HI.out] at hput
        have HO4 : Hid (OwnU ((((w3.setCell ⟨g, i * 4, none⟩ (.string x.u.id)).setCell ⟨g, i * 4 + 1, none⟩ (.int .i64 x.u.want)).setCell ⟨g, i * 4 + 2, none⟩ (.slice x.a x.n x.c)).setCell ⟨g, i * 4 + 3, none⟩ (.bool x.u.done)) base (some ⟨g, 0, none⟩) n C (keptE id (l.take (j + 1)) ++ l.drop (i + 1)) ∧ w.grownBy ((((w3.setCell ⟨g, i * 4, none⟩ (.string x.u.id)).setCell ⟨g, i * 4 + 1, none⟩ (.int .i64 x.u.want)).setCell ⟨g, i * 4 + 2, none⟩ (.slice x.a x.n x.c)).setCell ⟨g, i * 4 + 3, none⟩ (.bool x.u.done)) (some g)) := by
          refine ⟨?_, World.grownBy.trans HG3.out hput.2⟩
          rw [HN2.out, List.append_assoc]
          exact hput.1
        clear hput hO3 hfz hx3
        obtain ⟨y, hy⟩ : ∃ y, (keptE id (l.take j) ++ l[i] :: l.drop (i + 1))[i]'(by omega) = y := ⟨_, rfl⟩
        rw [hy] at g0 g1 g2 g3
        clear hy hlen3
        go_wp2_with fail
        go_roundw
        case rel => exact ⟨i + 1, j + 1, by go_num, by go_num, by omega, by omega, by rw [HN2.out, List.length_append, HI.out]; rfl, HO4.out.1, HO4.out.2⟩
        case measure => simp [intOf]; omega
    · have hjn2 : j = n := by omega
      subst hjn2
      have HKp : Hid (keptE id l = keptE id (l.take j)) := by show _ = _; rw [List.take_of_length_le (by have := HL.out; omega)]
      obtain ⟨rest, hrow, _, _, _⟩ := HOr.out.row
      have hI := HI.out
      have hl := HL.out
      obtain ⟨w4, Z, hcl, hrow4, hg4⟩ := clearU_run wr 126 0 Tryz.underlying126 g C (i * 4) (j - i) (C - i) (ueCells (keptE id (l.take j))) (ueCells (l.drop i)) rest (by rw [← ueCells_append]; exact hrow) (by rw [ueCells_len, List.length_drop, hl]) (by rw [ueCells_len, hI]) (by omega)
      have HR : Hid (OwnU w4 base (some ⟨g, 0, none⟩) i C (keptE id l) ∧ w.grownBy w4 (some g)) := by
        refine ⟨?_, World.grownBy.trans HG.out hg4⟩
        rw [HKp.out]
        exact RowU.own hrow4 hbg hCm hI
      have HLn : Hid ((keptE id l).length = i) := by show _ = _; rw [HKp.out]; exact hI
      have t1 : ¬ C = i := by omega
      have t2 : (i : Int) ≤ (j : Int) := by omega
      have t3 : (i : Int) ≤ (C : Int) := by omega
      clear hrow hrow4 hg4 hI hl hkc
      go_wp2_with fail
      go_ret
      exact ⟨by rw [HLn.out]; rfl, by rw [HLn.out]; exact HR.out.1, HR.out.2⟩

set_option maxRecDepth 10000 in
set_option maxHeartbeats 800000 in
theorem implWithoutU_any (base g n C : Nat) (l : List UE) (id : ByteArray) (K : Nat) (w : World) (ho : OwnU w base (some ⟨g, 0, none⟩) n C l) (hn : n ≤ 1048576) (hKn : K < l.length) (hkp : ∀ j (hj : j < l.length), j < K → (l[j]).u.id ≠ id) (hkK : (l[K]).u.id = id) :
    Calls Tryz.prog 134 #[.slice (some ⟨g, 0, none⟩) n C, .string id] w fun e w' => e = .returned (.slice (some ⟨g, 0, none⟩) (keptE id l).length C) ∧ OwnU w' base (some ⟨g, 0, none⟩) (keptE id l).length C (keptE id l) ∧ w.grownBy w' (some g) := by
  have HB : Hid (Below w.heap.size w (w.alloc (.cells #[.string id] 9))) := (Below.refl _ _).alloc (Nat.le_refl _) _
  have hx : (w.alloc (.cells #[.string id] 9)).cell? ⟨w.heap.size, 0, none⟩ = some (.string id) := by rw [cell_of_row _ _ _ _ _ _ (heap_alloc_new w _)]; rfl
  have hgl : g < w.heap.size := (ho.lt g rfl).2
  have HD : Hid (Calls Tryz.prog 138 #[.slice (some ⟨g, 0, none⟩) n C, .func (.func 139) #[] #[.pointer (some ⟨w.heap.size, 0, none⟩)]] (w.alloc (.cells #[.string id] 9)) fun e w' => e = .returned (.slice (some ⟨g, 0, none⟩) (keptE id l).length C) ∧ OwnU w' base (some ⟨g, 0, none⟩) (keptE id l).length C (keptE id l) ∧ (w.alloc (.cells #[.string id] 9)).grownBy w' (some g)) :=
    delU_any base g n C l id w.heap.size K _ (ho.below HB.out) hx (by omega) hn hKn hkp hkK
  clear ho hx hkp hkK
  generalize keptE id l = kl at *
  go_enter Tryz.func134, Tryz.ntmps134
  go_wp2_with fail
  refine HD.out.mono ?_
  rintro e w5 ⟨rfl, ho5, hg5⟩
  have HR : Hid (OwnU w5 base (some ⟨g, 0, none⟩) kl.length C kl ∧ w.grownBy w5 (some g)) := ⟨ho5, ⟨hg5.os.trans HB.out.os, hg5.tape.trans HB.out.tape, hg5.output.trans HB.out.output, Nat.le_trans HB.out.size hg5.size, fun j hj hne => (hg5.block j (Nat.lt_of_lt_of_le hj HB.out.size) hne).trans (HB.out.block j hj)⟩⟩
  clear ho5 hg5
  go_wp2_with fail
  go_ret
  exact ⟨rfl, HR.out.1, HR.out.2⟩

end Go.Proofs.YtclkfjlnhcccdaaGreatDoor

namespace Go.Proofs.YtclkfjlnhcccdaaGreatDoor
open Go.RowKit
set_option linter.unusedVariables false

section
variable {P : Program} {ops : Array Oper} {md : Region.Mode} {C : World → Prop}

/-- Each operation from the m-th to the n-th is waited for by a later one of these, or by the n-th. -/
def sinkFrom (md : Region.Mode) (ops : Array Oper) (m n : Nat) : Bool :=
  (List.range n).all fun i => decide (i < m) || (List.range (n + 1)).any fun j => decide (i < j) && Region.waitsFor md ops j i

theorem tail_waitsF {m n : Nat} {listed : Array Bool} (hs : sinkFrom md ops m n = true) (hc : Region.chainB md ops n = true) (hn : n < ops.size) (inv : HeadInv md ops n listed) :
    ∀ (d i : Nat), n - i = d → m ≤ i → i < n → listed.getD i true = false → ∀ t, n ≤ t → t ∉ Region.ready md ops listed := by
  intro d
  induction d using Nat.strongRecOn with
  | _ d ih =>
    intro i hd hmi hi hun t ht hr
    obtain ⟨_, ot, hot, hall⟩ := mem_ready.1 hr
    have htlt : t < ops.size := (Array.getElem?_eq_some_iff.1 hot).1
    by_cases htn : t = n
    · subst htn
      have h1 := List.all_eq_true.1 hs i (List.mem_range.2 hi)
      rw [decide_eq_false (by omega), Bool.false_or] at h1
      obtain ⟨j, hj, hj2⟩ := List.any_eq_true.1 h1
      simp only [Bool.and_eq_true, decide_eq_true_eq] at hj2
      obtain ⟨oj, hoj, e, he, hb, hon⟩ := Region.waitsFor_spec hj2.2
      have hjle : j ≤ t := by have := List.mem_range.1 hj; omega
      by_cases hjt : j = t
      · subst hjt
        have : oj = ot := Option.some.inj (hoj.symm.trans hot)
        subst this
        have h2 := hall e he hb
        rw [hon, getD_both hun] at h2
        cases h2
      · cases hl : listed.getD j false with
        | true =>
          have h2 := inv.closed j oj hoj hl e he hb
          rw [hon, getD_both hun] at h2
          cases h2
        | false =>
          have hjs : j < listed.size := by rw [inv.size]; omega
          exact ih (t - j) (by omega) j rfl (by omega) (by omega) (getD_in hjs hl) t (Nat.le_refl _) hr
    · have h1 := List.all_eq_true.1 hc t (List.mem_range.2 htlt)
      simp only [Bool.or_eq_true, decide_eq_true_eq] at h1
      rcases h1 with h1 | h1
      · omega
      · obtain ⟨o', ho', e, he, hb, hon⟩ := Region.waitsFor_spec h1
        have : o' = ot := Option.some.inj (ho'.symm.trans hot)
        subst this
        have h2 := hall e he hb
        rw [hon, getD_both (inv.tail (t - 1) (by omega) (by omega))] at h2
        cases h2

/-- Whatever order is picked of the operations ahead of the n-th. -/
def wpHeadQ (P : Program) (md : Region.Mode) (ops : Array Oper) (C : World → Prop) (n : Nat) (L : Array Bool → Act → Prop) : Nat → Array Bool → Act → Prop
  | 0, listed, a => L listed a
  | f + 1, listed, a => Region.ready md ops listed ≠ [] ∧ ∀ i ∈ Region.ready md ops listed, i < n ∧ qOp P ops C i (wpHeadQ P md ops C n L f (listed.setIfInBounds i true)) a

theorem wpAny_of_headQ {n g : Nat} {L : Array Bool → Act → Prop} {Q' : Exit → Act → World → Prop} (hL : ∀ listed a w, C w → L listed a → wpAny P md ops Q' g listed a w) :
    ∀ (f : Nat) (listed : Array Bool) (a : Act) (w : World), C w → wpHeadQ P md ops C n L f listed a → wpAny P md ops Q' (f + g) listed a w
  | 0, listed, a, w, hC, h => by rw [Nat.zero_add]; exact hL _ _ _ hC h
  | f + 1, listed, a, w, hC, h => by
    rw [show f + 1 + g = (f + g) + 1 by omega]
    exact ⟨fun h0 => absurd h0 h.1, fun i hi => wpOp_of_qOp hC (fun a' w' hC' h' => wpAny_of_headQ hL f _ a' w' hC' h') (h.2 i hi).2⟩

theorem wpHeadQ_first {m n i : Nat} {oi : Oper} {v : Value} {L : Array Bool → Act → Prop} (hi : ops[i]? = some oi) (hsel : ∀ (j : Nat) (o : Oper) cs b, ops[j]? = some o → o.op ≠ .select cs b)
    (hs : sinkFrom md ops m n = true) (hc : Region.chainB md ops n = true) (hn : n < ops.size) (him : m ≤ i) (hin : i < n)
    (hdone : ∀ listed a, L listed a → ∀ j ∈ Region.ready md ops listed, n ≤ j) :
    ∀ (f : Nat) (listed : Array Bool) (a : Act), HeadInv md ops n listed →
      (∀ j oj, ops[j]? = some oj → j ≠ i → listed.getD j true = false → (∀ e ∈ oj.after, Region.binds md e = true → e.on ≠ i) → oi.apart ops oj = true) →
      i ∈ Region.ready md ops listed → YieldsIn P ops C oi v a →
      wpHeadQ P md ops C n L f (listed.setIfInBounds i true) (a.put oi.dst v) → wpHeadQ P md ops C n L (f + 1) listed a := by
  intro f
  induction f with
  | zero =>
    intro listed a inv _ hr hy H
    have hun := (mem_ready.1 hr).1
    refine ⟨fun h => (by rw [h] at hr; cases hr), fun j hj => ?_⟩
    have hjn : j < n := by
      rcases Nat.lt_or_ge j n with h | h
      · exact h
      · exact absurd hj (tail_waitsF hs hc hn inv _ i rfl him hin hun j h)
    refine ⟨hjn, ?_⟩
    by_cases hji : j = i
    · subst hji; exact hy.qOp hi H
    · have := hdone _ _ H j (ready_mono hj hji)
      omega
  | succ f ih =>
    intro listed a inv hfree hr hy H
    have hun := (mem_ready.1 hr).1
    refine ⟨fun h => (by rw [h] at hr; cases hr), fun j hj => ?_⟩
    have hjn : j < n := by
      rcases Nat.lt_or_ge j n with h | h
      · exact h
      · exact absurd hj (tail_waitsF hs hc hn inv _ i rfl him hin hun j h)
    refine ⟨hjn, ?_⟩
    by_cases hji : j = i
    · subst hji; exact hy.qOp hi H
    · have h1 := (H.2 j (ready_mono hj hji)).2
      obtain ⟨hjun, oj, hoj, hall⟩ := mem_ready.1 hj
      have hnot : ∀ e ∈ oj.after, Region.binds md e = true → e.on ≠ i := fun e he hb heq => by
        have h1 := hall e he hb
        rw [heq, getD_both hun] at h1
        cases h1
      have h2 := qOp_put hoj (hfree j oj hoj hji hjun hnot) (fun cs b => hsel i oi cs b hi) (fun cs b => hsel j oj cs b hoj) hy h1
      have hfree' : ∀ k ok, ops[k]? = some ok → k ≠ i → (listed.setIfInBounds j true).getD k true = false →
          (∀ e ∈ ok.after, Region.binds md e = true → e.on ≠ i) → oi.apart ops ok = true := fun k ok hk hki hun hno => by
        refine hfree k ok hk hki ?_ hno
        by_cases hjk : j = k
        · subst hjk; exact hjun
        · rw [getD_set_ne true hjk] at hun; exact hun
      refine qOp_mono (fun a' h3 => ih (listed.setIfInBounds j true) a' (inv.set hj hjn) hfree' (ready_mono hr (Ne.symm hji)) h3.1 ?_) h2
      rw [Array.setIfInBounds_comm _ _ hji]
      exact h3.2

theorem wpHeadQ_lex {m n g : Nat} {Lq : Act → Prop} (hsel : Region.noSelect ops = true) (hs : sinkFrom md ops m n = true) (hc : Region.chainB md ops n = true) (hn : n < ops.size) :
    ∀ (l : List Oper) (k : Nat) (listed : Array Bool) (a : Act), (∀ j, j < l.length → l[j]? = ops[k + j]?) → m ≤ k → k + l.length = n → HeadInv md ops n listed →
    Region.lexHead md ops g l.length k listed = true → wpQuiet P ops C Lq l a →
    wpHeadQ P md ops C n (fun listed' a' => Region.seqB md ops g n listed' = true ∧ Lq a') l.length listed a
  | [], k, listed, a, _, _, hk, _, hB, h => by
    have : k = n := by simpa using hk
    subst this
    exact ⟨by simpa [Region.lexHead] using hB, h⟩
  | o :: l, k, listed, a, hl, hmk, hk, inv, hB, h => by
    have h0 : ops[k]? = some o := by simpa using (hl 0 (by simp)).symm
    simp only [List.length_cons, Region.lexHead, Bool.and_eq_true] at hB
    obtain ⟨⟨hr, hf⟩, hB'⟩ := hB
    have hkn : k < n := by simp only [List.length_cons] at hk; omega
    have hr' : k ∈ Region.ready md ops listed := by simpa using hr
    have hst : qOp P ops C k (wpQuiet P ops C Lq l) a := by unfold qOp; simp only [h0]; exact h
    obtain ⟨v, hy, hK⟩ := yieldsIn_of_qOp h0 hst
    exact wpHeadQ_first h0 (Region.noSelect_spec hsel) hs hc hn hmk hkn (fun listed' a' hL => seqB_ready hL.1) l.length listed a inv (Region.free_spec h0 hf) hr' hy
      (wpHeadQ_lex hsel hs hc hn l (k + 1) _ _ (fun j hj => by have := hl (j + 1) (by simp; omega); simpa [Nat.add_assoc, Nat.add_comm 1 j] using this) (by omega) (by simp only [List.length_cons] at hk; omega) (inv.set hr' hkn) hB' hK)

/-- The bounds of a region whose first m operations are taken ahead, whose head is quiet, whose tail comes one by one. -/
def pastB (ops : Array Oper) (m n : Nat) : Bool :=
  Region.noSelect ops && decide (n < ops.size) && decide (m ≤ n) && sinkFrom .any ops m n && Region.chainB .any ops n && Region.lexHead .any ops (ops.size - n) (n - m) m ((List.range m).foldl (fun l i => l.setIfInBounds i true) (Array.replicate ops.size false))

/-- The head is quiet in the class, the tail comes one by one in whatever world of the class. -/
theorem wpAny_quiet_tail {Q : Exit → Act → World → Prop} {a : Act} {w : World} {l : List Oper} (m n : Nat) (listed : Array Bool) (hl : (List.range m).foldl (fun l i => l.setIfInBounds i true) (Array.replicate l.toArray.size false) = listed) (hB : pastB l.toArray m n = true) (inv0 : HeadInv .any l.toArray n listed) (hC : C w)
    (h : wpQuiet P l.toArray C (fun a' => ∀ w', C w' → wpList P l.toArray Q (l.drop n) a' w') ((l.take n).drop m) a) : wpAny P .any l.toArray Q (l.length - m) listed a w := by
  simp only [pastB, Bool.and_eq_true, decide_eq_true_eq] at hB
  obtain ⟨⟨⟨⟨⟨hsel, hn⟩, hmn⟩, hs⟩, hc⟩, hlex⟩ := hB
  rw [hl] at hlex
  have hn' : n < l.length := by simpa using hn
  have htl : ((l.take n).drop m).length = n - m := by simp; omega
  have hdl : (l.drop n).length = l.toArray.size - n := by simp
  have H := wpHeadQ_lex (md := .any) (g := l.toArray.size - n) (C := C) hsel hs hc hn ((l.take n).drop m) m listed a (fun j hj => by
    have hj' : m + j < n := by rw [htl] at hj; omega
    rw [List.getElem?_drop, List.getElem?_take_of_lt hj']
    simp) (Nat.le_refl _) (by rw [htl]; omega) inv0 (by rw [htl]; exact hlex) h
  have := wpAny_of_headQ (Q' := Q) (g := l.toArray.size - n) (fun listed a' w' hC' hL => by
    have := wpAny_of_seq (md := .any) (Q' := Q) (l.drop n) n listed a' w' (fun j => by simp [List.getElem?_drop]) (by rw [hdl]; exact hL.1) (hL.2 w' hC')
    rwa [hdl] at this) _ _ _ _ hC H
  rw [htl, show n - m + (l.toArray.size - n) = l.length - m by simp; omega] at this
  exact this

theorem headInv0 (l : List Oper) (n : Nat) : HeadInv .any l.toArray n (Array.replicate l.toArray.size false) :=
  ⟨by simp, fun j oj _ hl => (by rw [getD_replicate_false] at hl; cases hl), fun t _ ht => getD_in (by simpa using ht) (getD_replicate_false _ _)⟩
end

/-- All in the class of worlds in which all that lay in w is as it was; the region's row hidden behind a name. -/
theorem wp_region_past_tail {P : Program} {id : Nat} {Q : Exit → Act → World → Prop} {a : Act} {w : World} {l : List Oper} (n : Nat) (hm : P.follows .mixedOrders = true) (hB : pastB l.toArray 0 n = true)
    (h : ∀ ops : Array Oper, Hid (ops = l.toArray) → wpQuiet P ops (fun w' => ∃ p : Past w, w' = p.world) (fun a' => ∀ w', (∃ p : Past w, w' = p.world) → wpList P ops Q (l.drop n) a' w') (l.take n) a) : (Code.region id l.toArray true).wp P Q a w := by
  refine wp_region_any hm ?_
  have := wpAny_quiet_tail (C := fun w' => ∃ p : Past w, w' = p.world) (Q := Q) 0 n _ rfl hB (headInv0 l n) ⟨⟨w.drew, (Below.refl _ _).drew⟩, rfl⟩ (by rw [List.drop_zero]; exact h _ rfl)
  simpa using this

/-- The same where the first operation only moves a value, whenever it comes; nothing panics. -/
theorem wp_region_past_tail1 {P : Program} {id : Nat} {Q : Exit → Act → World → Prop} {a : Act} {w : World} {o : Oper} {l : List Oper} (n : Nat) (hm : P.follows .mixedOrders = true) (hB : pastB (o :: l).toArray 1 n = true) (hf : Region.free .any (o :: l).toArray (Array.replicate (o :: l).toArray.size false) 0 = true) (hr : (Region.ready .any (o :: l).toArray (Array.replicate (o :: l).toArray.size false)).contains 0 = true) (ha : o.after = #[]) (hg : o.guard = none) (x : Operand) (ho : o.op = .move x)
    (h : ∀ ops : Array Oper, Hid (ops = (o :: l).toArray) → wpQuiet P ops (fun w' => ∃ p : Past w, w' = p.world) (fun a' => ∀ w', (∃ p : Past w, w' = p.world) → wpList P ops (fun e a w => e = .normal ∧ Q .normal a w) ((o :: l).drop n) a' w') (((o :: l).take n).drop 1) (a.put o.dst (a.eval x))) : (Code.region id (o :: l).toArray true).wp P Q a w := by
  have hsel : Region.noSelect (o :: l).toArray = true := by
    simp only [pastB, Bool.and_eq_true] at hB
    exact hB.1.1.1.1.1
  have hn : 1 ≤ n ∧ n < (o :: l).length := by
    simp only [pastB, Bool.and_eq_true, decide_eq_true_eq] at hB
    exact ⟨hB.1.1.1.2, by simpa using hB.1.1.1.1.2⟩
  have hy : Yields P (o :: l).toArray o (a.eval x) a := .inl ⟨by simp [Region.wanted, hg], fun w => by simp [execOp, ho]⟩
  have inv1 : HeadInv .any (o :: l).toArray n ((Array.replicate (o :: l).toArray.size false).setIfInBounds 0 true) := by
    refine ⟨by simp, fun j oj hj hl e he hb => ?_, fun t ht ht' => ?_⟩
    · by_cases hj0 : 0 = j
      · subst hj0
        obtain rfl : o = oj := by simpa using hj
        rw [ha] at he
        simp at he
      · rw [getD_set_ne false hj0, getD_replicate_false] at hl
        cases hl
    · rw [getD_set_ne true (by omega)]
      exact getD_in (by simpa using ht') (getD_replicate_false _ _)
  have H := wpAny_quiet_tail (C := fun w' => ∃ p : Past w, w' = p.world) (Q := fun e a w => e = .normal ∧ Q .normal a w) 1 n _ rfl hB inv1 ⟨⟨w.drew, (Below.refl _ _).drew⟩, rfl⟩ (h _ rfl)
  have H2 : wpAny P .any (o :: l).toArray (fun e a w => e = .normal ∧ Q .normal a w) (o :: l).toArray.size (Array.replicate (o :: l).toArray.size false) a { w with drawn := w.drawn + 1 } :=
    wpAny_take (fuel := l.length) (v := a.eval x) (by simp) hsel hf hr (fun c a w h => by cases h.1) hy (by simpa using H)
  exact Code.wp_mono (fun e a w h => by obtain ⟨rfl, h⟩ := h; exact h) (wp_region_any hm H2)

end Go.Proofs.YtclkfjlnhcccdaaGreatDoor
