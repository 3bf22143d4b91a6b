/- An append of whatever may be appended, and where its row lies: where it lay, or behind all. No program in it. What the specification's l14CopyUps answers. What records make, one behind the other; no program in it. Two steps of a region that draws its order: a call that leaves the world as it was, an append onto a row of the call's own. No program in it. -/
import Derived.Test.YtclkfjlnhcccdaaGreatDoorM03
import Derived.Deep.RegionLaw
import Derived.Test.YtclkfjlnhcccdaaGreatDoorM04
import Derived.Test.YtclkfjlnhcccdaaGreatDoorM04
import Derived.Test.YtclkfjlnhcccdaaGreatDoorM13
import Derived.Deep.CutBlock
import Derived.Laws.AppendOwn
import Derived.WalkKit
namespace Go.Proofs.YtclkfjlnhcccdaaGreatDoor
open Go.RowKit
set_option linter.unusedVariables false

theorem run_append_loc {P : Program} (w : World) (base : Nat) (t tx ty e : TypeId) (i : TypeInfo) (z : Value) (size bytes : Nat) (ht : P.underlying t = some (.slice e)) (hi : P.info? e = some i) (hz : i.zero = some z)
    (hsize : i.size = size) (hby : i.bytes = bytes) (hzs : z.cells.size = size) (hsz : 0 < size)
    (g n cap : Nat) (xs : List Value) (hown : w.ownsRow base e size (.slice (some ⟨g, 0, none⟩) n cap) n xs)
    (x : Value) (m : Nat) (news : List Value) (hs : Src P size tx x m news w)
    (h63 : n + m ≤ maxLen) (hbytes : (n + m) * bytes ≤ 140737488355328) (hbase : base ≤ w.heap.size) :
    ∃ g' c' w', (Builtin.append_ #[t, tx] ty #[.slice (some ⟨g, 0, none⟩) n cap, x]).run P w = .ok (.slice (some ⟨g', 0, none⟩) (n + m) c') w' ∧ w'.ownsRow base e size (.slice (some ⟨g', 0, none⟩) (n + m) c') (n + m) (xs ++ news) ∧ w.grownBy w' (some g) ∧ (g' = g ∨ g' = w.heap.size) := by
  subst hsize
  subst hby
  have hsmall : n + m ≤ 9223372036854775807 := by simp only [maxLen] at h63; omega
  have hl := hs.newsLen
  have hlen : (xs ++ news).length = (n + m) * i.size := by rw [List.length_append, hown.1, hl, Nat.add_mul]
  rcases hown.2 with ⟨h, _⟩ | ⟨g', cap', cur, heq, hbg, hg, hnc, hcm, hcs, htake⟩
  · cases h
  · injection heq with e1 e2 e3
    injection e1 with e1
    injection e1 with e1
    subst e1
    subst e3
    by_cases hroom : n + m ≤ cap
    · have hfit : n * i.size + news.length ≤ cur.size := by rw [hl, hcs, ← Nat.add_mul]; exact Nat.mul_le_mul_right _ hroom
      have hr := run_room_any w t tx ty e i ht hi g n cap cur hg x m news hs hroom hfit
      refine ⟨_, _, _, hr, ⟨hlen, .inr ⟨g, cap, _, rfl, hbg, setRow_heap w g cur _ e _ hg, hroom, hcm, ?_, ?_⟩⟩, ⟨rfl, rfl, rfl, by simp, fun k _ hk => setRow_other w g k _ (fun e => hk (by simp [e]))⟩, .inl rfl⟩
      · simp only [List.size_toArray, List.length_append, List.length_take, List.length_drop, Array.length_toList]
        omega
      · rw [htake, ← hlen]
        exact List.take_left
    · have holds : ∀ j u, xs[j]? = some u → w.cell? ((⟨g, 0, none⟩ : Addr).add j) = some u := hown.cells (g := g) rfl
      have hold := run_firstCells_some (P := P) w.drew i.size n ⟨g, 0, none⟩ n cap xs hown.1 (by simpa using holds)
      have hr := run_append_grow_src (P := P) w t tx ty e i z ht hi hz (some ⟨g, 0, none⟩) n cap xs hold x m news hs (by omega) (by omega) (growslice_fits (by omega) hbytes)
      have hge := grownCap_ge w (n + m) cap e
      have hcm' : grownCap w (n + m) cap e ≤ maxLen := grownCap_le_maxLen w (n + m) cap e h63
      refine ⟨_, _, _, hr, ⟨hlen, .inr ⟨w.heap.size, _, _, rfl, hbase, heap_alloc_new w.drew _, hge, hcm', ?_, ?_⟩⟩, ⟨rfl, rfl, rfl, by simp, fun k hk _ => heap_alloc_old w.drew _ hk⟩, .inr rfl⟩
      · simp only [Array.size_append, List.size_toArray, size_zeroCells, hzs, hlen, ← Nat.add_mul]
        congr 1
        omega
      · simp only [Array.toList_append]
        rw [← hlen]
        exact List.take_left

theorem wpList_append_loc {P : Program} {w : World} {ops : Array Oper} {rest : List Oper} {o : Oper} {a : Act} {Q : Exit → Act → World → Prop} (hgd : o.guard = none) (s x : Operand) (t tx : TypeId)
    (ho : o.op = .call { callee := .builtin .append, args := #[s, x], argTypes := #[t, tx] })
    (base : Nat) (e : TypeId) (i : TypeInfo) (z : Value) (size bytes : Nat) (ht : P.underlying t = some (.slice e)) (hi : P.info? e = some i) (hz : i.zero = some z)
    (hsize : i.size = size) (hby : i.bytes = bytes) (hzs : z.cells.size = size) (hsz : 0 < size)
    (g n cap : Nat) (xs : List Value) (hs : a.eval s = .slice (some ⟨g, 0, none⟩) n cap) (hown : w.ownsRow base e size (.slice (some ⟨g, 0, none⟩) n cap) n xs)
    (u : Value) (m : Nat) (news : List Value) (hx : a.eval x = u) (hsrc : Src P size tx u m news w)
    (h63 : n + m ≤ maxLen) (hbytes : (n + m) * bytes ≤ 140737488355328) (hbase : base ≤ w.heap.size)
    (h : ∀ g' c' w', w'.ownsRow base e size (.slice (some ⟨g', 0, none⟩) (n + m) c') (n + m) (xs ++ news) → w.grownBy w' (some g) → (g' = g ∨ g' = w.heap.size) → wpList P ops Q rest (a.put o.dst (.slice (some ⟨g', 0, none⟩) (n + m) c')) w') : wpList P ops Q (o :: rest) a w := by
  refine wpList_plain hgd fun K hK => ?_
  obtain ⟨g', c', w', hr, h2, h3, h4⟩ := run_append_loc (P := P) w base t tx o.type e i z size bytes ht hi hz hsize hby hzs hsz g n cap xs hown u m news hsrc h63 hbytes hbase
  unfold Oper.wp execOp
  simp only [ho, resolve, invoke, builtin, Sem.run_bind, Sem.run_pure, Result.andThen_ok, List.map_toArray, List.map_cons, List.map_nil, hs, hx, hr]
  exact hK _ _ (h g' c' w' h2 h3 h4)

theorem step_append_loc {P : Program} {ops : Array Oper} {o : Oper} {a : Act} {w : World} {K : Act → World → Prop} {Q : Exit → Act → World → Prop} {E : Prop} (hgd : o.guard = none) (s x : Operand) (t tx : TypeId)
    (ho : o.op = .call { callee := .builtin .append, args := #[s, x], argTypes := #[t, tx] })
    (base : Nat) (e : TypeId) (i : TypeInfo) (z : Value) (size bytes : Nat) (ht : P.underlying t = some (.slice e)) (hi : P.info? e = some i) (hz : i.zero = some z)
    (hsize : i.size = size) (hby : i.bytes = bytes) (hzs : z.cells.size = size) (hsz : 0 < size)
    (g n cap : Nat) (xs : List Value) (hs : a.eval s = .slice (some ⟨g, 0, none⟩) n cap) (hown : w.ownsRow base e size (.slice (some ⟨g, 0, none⟩) n cap) n xs)
    (u : Value) (m : Nat) (news : List Value) (hx : a.eval x = u) (hsrc : Src P size tx u m news w)
    (h63 : n + m ≤ maxLen) (hbytes : (n + m) * bytes ≤ 140737488355328) (hbase : base ≤ w.heap.size)
    (h : ∀ g' c' w', w'.ownsRow base e size (.slice (some ⟨g', 0, none⟩) (n + m) c') (n + m) (xs ++ news) → w.grownBy w' (some g) → (g' = g ∨ g' = w.heap.size) → K (a.put o.dst (.slice (some ⟨g', 0, none⟩) (n + m) c')) w') :
    if Region.wanted o (yielded ops a.tmps) = true then Oper.wp P o a w K Q else E := by
  have hw : Region.wanted o (yielded ops a.tmps) = true := by simp [Region.wanted, hgd]
  rw [if_pos hw]
  obtain ⟨g', c', w', hr, h2, h3, h4⟩ := run_append_loc (P := P) w base t tx o.type e i z size bytes ht hi hz hsize hby hzs hsz g n cap xs hown u m news hsrc h63 hbytes hbase
  unfold Oper.wp execOp
  simp only [ho, resolve, invoke, builtin, Sem.run_bind, Sem.run_pure, Result.andThen_ok, List.map_toArray, List.map_cons, List.map_nil, hs, hx, hr]
  exact h g' c' w' h2 h3 h4

end Go.Proofs.YtclkfjlnhcccdaaGreatDoor

namespace Go.Proofs.YtclkfjlnhcccdaaGreatDoor
open Go.RowKit
set_option linter.unusedVariables false

set_option maxRecDepth 10000 in
set_option maxHeartbeats 1600000 in
theorem specCopyU_any (a : Option Addr) (n c lo : Nat) (l : List UE) (w : World) (h : UpRow w lo (.slice a n c) l) (hn : n = l.length) (hl : n ≤ 1048576) (hz : ∀ e ∈ l, e.n ≤ 1099511627776) :
    Calls Tryz.prog 74 #[.slice a n c] w fun e w' => (∃ v l', e = .returned v ∧ UpRow w' w.heap.size v l' ∧ l'.map UE.u = l.map UE.u ∧ ∀ e ∈ l', ∃ g, e.a = some ⟨g, 0, none⟩) ∧ Below w.heap.size w w' := by
  obtain ⟨i0, hi, hz0, hz1, hz2⟩ := info_parts info_up
  obtain ⟨j0, ji, jz0, jz1, jz2⟩ := info_parts Tryz.info5
  have HX : Hid (∀ W, Below w.heap.size w W → UpRow W lo (.slice a n c) l) := fun W hb => h.stays hb
  have HN : Hid (n = l.length) := hn
  have HZ : Hid (∀ e ∈ l, e.n ≤ 1099511627776) := hz
  clear h hn hz
  have HO0 : Hid (UpRow (w.alloc (.cells #[] 112)) w.heap.size (.slice (some ⟨w.heap.size, 0, none⟩) 0 0) []) := UpRow.nil w
  have HB0 : Hid (Below w.heap.size w (w.alloc (.cells #[] 112))) := (Below.refl _ _).alloc (Nat.le_refl _) _
  go_enter Tryz.func74, Tryz.ntmps74
  go_wp2_with fail
  go_loopw [3, 4] (fun v i wr => ∃ (k : Nat) (l' : List UE), k ≤ n ∧ l'.length = k ∧ i = .int .i64 (k : Int) ∧ Hid (UpRow wr w.heap.size v l') ∧ Hid (l'.map UE.u = (l.map UE.u).take k) ∧ Hid (∀ e ∈ l', ∃ g, e.a = some ⟨g, 0, none⟩) ∧ Hid (Below w.heap.size w wr)) (fun _ i _ => n - (intOf i).toNat)
  case atStart => exact ⟨0, [], Nat.zero_le _, rfl, rfl, HO0, rfl, (fun e he => absurd he (List.not_mem_nil)), HB0⟩
  case round =>
    clear HO0 HB0
    obtain ⟨k, l', hk, hlk, rfl, HO, HM, HSm, HW⟩ := hrel
    obtain ⟨va, vc, hve⟩ := HO.out.shape
    subst hve
    rw [hlk] at HO ⊢
    by_cases hlt : k < n
    case neg =>
      obtain rfl : k = n := by omega
      have HF : Hid (l'.map UE.u = l.map UE.u) := by show _ = _; rw [HM.out, List.take_of_length_le (by rw [List.length_map, HN.out]; exact Nat.le_refl _)]
      clear HM
      go_wp2_with fail
      go_ret
      exact ⟨⟨_, l', rfl, HO.out, HF.out, HSm.out⟩, HW.out⟩
    have hkl : k < l.length := by rw [← HN.out]; exact hlt
    have hki : (k : Int) < (n : Int) := by omega
    have hk0 : (0 : Int) ≤ (k : Int) := by omega
    obtain ⟨g, rfl, g0, g1, g2, g3, _⟩ := (HX.out _ HW.out).at HN.out hkl
    have HSg : Hid (Seg wr (l[k]).a (l[k]).n (l[k]).u.zs) := ((HX.out _ HW.out).2.1 (l[k]) (List.getElem_mem hkl)).seg
    have hen : (l[k]).n ≤ 1099511627776 := HZ.out _ (List.getElem_mem hkl)
    have HM2 : Hid (l'.map UE.u ++ [(l[k]).u] = (l.map UE.u).take (k + 1)) := by show _ = _; rw [List.take_add_one, List.getElem?_map, List.getElem?_eq_getElem hkl, HM.out]; rfl
    clear HM
    generalize l[k] = e at *
    have hb1 := (Below.refl wr.heap.size wr).alloc (Nat.le_refl _) (.cells #[.string e.u.id, .int .i64 e.u.want, .slice e.a e.n e.c, .bool e.u.done] 112)
    have HB1 : Hid (Below w.heap.size w (wr.alloc (.cells #[.string e.u.id, .int .i64 e.u.want, .slice e.a e.n e.c, .bool e.u.done] 112))) := HW.out.trans (hb1.mono HW.out.size)
    have HO1 : Hid (UpRow (wr.alloc (.cells #[.string e.u.id, .int .i64 e.u.want, .slice e.a e.n e.c, .bool e.u.done] 112)) w.heap.size (.slice va k vc) l') := HO.out.stays hb1
    have HS1 : Hid (Seg (wr.alloc (.cells #[.string e.u.id, .int .i64 e.u.want, .slice e.a e.n e.c, .bool e.u.done] 112)) e.a e.n e.u.zs) := HSg.out.below hb1
    have HU1 : Hid (BoxN (wr.alloc (.cells #[.string e.u.id, .int .i64 e.u.want, .slice e.a e.n e.c, .bool e.u.done] 112)) wr.heap.size 112 [.string e.u.id, .int .i64 e.u.want, .slice e.a e.n e.c, .bool e.u.done]) := BoxN.new _ _ _
    have hlo : w.heap.size ≤ wr.heap.size := HW.out.size
    have HAp : Hid (∀ x ∈ l', ∀ q, x.a.map (·.block) = some q → q < wr.heap.size) := fun x hx q hq => (HO.out.lts.2 x hx q hq).2
    have HVa : Hid (∀ q, (Value.slice va k vc).ownBlock = some q → q < wr.heap.size) := fun q hq => (HO.out.lts.1 q hq).2
    clear hb1 HSg HW HO
    go_upto_region 6 with fail
    obtain ⟨x1, hx1⟩ : ∃ x1, wr.alloc (.cells #[.string e.u.id, .int .i64 e.u.want, .slice e.a e.n e.c, .bool e.u.done] 112) = x1 := ⟨_, rfl⟩
    rw [hx1] at HB1 HO1 HS1 HU1 ⊢
    clear hx1 g0 g1 g2 g3
    generalize wr.heap.size = bx at *
    have hbx : bx < x1.heap.size := HU1.out.lt
    have hb2 := (Below.refl x1.heap.size x1).alloc (Nat.le_refl _) (.cells #[] 5)
    have HR2 : Hid ((x1.alloc (.cells #[] 5)).ownsRow x1.heap.size 5 1 (.slice (some ⟨x1.heap.size, 0, none⟩) 0 0) 0 []) := World.ownsRow_lit x1 #[] 0 (Nat.le_refl _) (Nat.zero_le _) rfl
    have HSr : Hid (Src Tryz.prog 1 102 (.slice e.a e.n e.c) e.n (e.u.zs.map (Value.int .u8)) (x1.alloc (.cells #[] 5))) := (HS1.out.below hb2).src
    have hU2 := HU1.out.stays hb2
    have u2 := hU2.cell 2 rfl
    have HZr : Hid (∀ x ∈ e.u.zs, 0 ≤ x ∧ x ≤ 255) := HS1.out.2.1
    have HL2 : Hid (x1.heap.size ≤ (x1.alloc (.cells #[] 5)).heap.size) := hb2.size
    go_wp2_with (at_builtin; refine wpList_append_loc rfl _ _ 102 102 rfl x1.heap.size 5 j0 (.int .u8 0) 1 1 Tryz.underlying102 ji jz0 jz1 jz2 rfl (by decide) x1.heap.size 0 0 [] rfl HR2.out (.slice e.a e.n e.c) e.n (e.u.zs.map (Value.int .u8)) rfl HSr.out (by unfold maxLen; omega) (by omega) HL2.out ?_; intro gA C x3 hown3 hg3 _; refine Hid.out ?_)
    refine hidden ?_
    obtain ⟨A, hAe⟩ : ∃ A : Option Addr, some ⟨gA, 0, none⟩ = A := ⟨_, rfl⟩
    have HAe : Hid (some ⟨gA, 0, none⟩ = A) := hAe
    rw [hAe] at hown3 ⊢
    have hown3' : x3.ownsRow x1.heap.size 5 1 (.slice A e.n C) e.n (e.u.zs.map (Value.int .u8)) := by
      have h := hown3
      rw [Nat.zero_add] at h
      simpa using h
    clear hAe
    have ho3 : Owns x3 x1.heap.size A e.n C e.u.zs := ⟨hown3', HZr.out⟩
    have hU3 := hU2.grown hg3 (fun q => by injection q with q; omega)
    have hO3 : UpRow x3 w.heap.size (.slice va k vc) l' := (HO1.out.stays hb2).grown hg3 (fun q hq hq2 => by injection hq with hq; have := HVa.out q hq2; omega) (fun x hx q hq hq2 => by injection hq with hq; have := HAp.out x hx q hq2; omega)
    have hB3 : Below w.heap.size w x3 := (HB1.out.trans (hb2.mono HB1.out.size)).grown hg3 (by have := HB1.out.size; have := hb2.size; omega) (fun q hq => by injection hq with hq; have := HB1.out.size; omega)
    have y2 := hU3.cell 2 rfl
    have z2 := hU3.frozen 2
    have hA : A.map (·.block) ≠ some bx := fun q => by have := (ho3.lt _ q).1; omega
    have hgs : x3.grownBy (x3.setCell ⟨bx, 2, none⟩ (.slice A e.n C)) (some bx) := grownBy_setU x3 bx 2 _
    have HU4 : Hid (BoxN (x3.setCell ⟨bx, 2, none⟩ (.slice A e.n C)) bx 112 [.string e.u.id, .int .i64 e.u.want, .slice A e.n C, .bool e.u.done]) := hU3.set 2 _
    have HO4 : Hid (UpRow (x3.setCell ⟨bx, 2, none⟩ (.slice A e.n C)) w.heap.size (.slice va k vc) l') := hO3.grown hgs (fun q hq hq2 => by injection hq with hq; have := HVa.out q hq2; omega) (fun x hx q hq hq2 => by injection hq with hq; have := HAp.out x hx q hq2; omega)
    have HD4 : Hid (Owns (x3.setCell ⟨bx, 2, none⟩ (.slice A e.n C)) (bx + 1) A e.n C e.u.zs) := owns_low (owns_set ho3 hA) (by omega)
    have HB4 : Hid (Below w.heap.size w (x3.setCell ⟨bx, 2, none⟩ (.slice A e.n C))) := hB3.setCell (by dsimp only; omega) _
    clear hown3 hown3' ho3 hU3 hO3 hB3 hA hgs hg3 hU2 u2 HR2 HSr HB1 HO1 HS1 HU1 hb2 HL2
    go_upto_region 7 with fail
    obtain ⟨x4, hx4⟩ : ∃ x4, (x3.setCell ⟨bx, 2, none⟩ (.slice A e.n C)) = x4 := ⟨_, rfl⟩
    rw [hx4] at HU4 HO4 HD4 HB4 ⊢
    clear hx4 y2 z2
    have hbx4 : bx < x4.heap.size := HU4.out.lt
    have hw4 : w.heap.size ≤ x4.heap.size := HB4.out.size
    obtain ⟨t0, t1, t2, t3⟩ := (show _ ∧ _ ∧ _ ∧ _ from ⟨HU4.out.cell 0 rfl, HU4.out.cell 1 rfl, HU4.out.cell 2 rfl, HU4.out.cell 3 rfl⟩)
    have HNw : Hid (∀ j u, (UE.cells ⟨e.u, A, e.n, C⟩)[j]? = some u → (x4.alloc (.cells #[.string e.u.id, .int .i64 e.u.want, .slice A e.n C, .bool e.u.done] 112)).cell? ((⟨x4.heap.size, 0, none⟩ : Addr).add j) = some u) := four_new x4 e.u A e.n C
    have HO4' : Hid ((x4.alloc (.cells #[.string e.u.id, .int .i64 e.u.want, .slice A e.n C, .bool e.u.done] 112)).ownsRow w.heap.size 112 4 (.slice va k vc) k (ueCells l')) := by
      have h := HO4.out.1.alloc (.cells #[.string e.u.id, .int .i64 e.u.want, .slice A e.n C, .bool e.u.done] 112)
      rw [hlk] at h
      exact h
    have HAp' : Hid (∀ x ∈ l', ∀ q, x.a.map (·.block) = some q → q < bx + 1) := fun x hx q hq => by have := HAp.out x hx q hq; omega
    go_wp2_with (at_builtin; refine wpList_append_own _ rfl _ _ 33 rfl w.heap.size 112 i0 (.agg #[.string ⟨#[]⟩, .int .i64 0, .slice none 0 0, .bool false]) 4 56 Tryz.underlying33 hi hz0 hz1 hz2 rfl (by decide) (.slice va k vc) k _ rfl HO4'.out ⟨x4.heap.size, 0, none⟩ 1 1 (UE.cells ⟨e.u, A, e.n, C⟩) rfl rfl HNw.out (four_one e.u A e.n C) (by unfold maxLen; omega) (by omega) (by simp; omega) ?_; intro v5 x5 hown5 hg5 _; refine Hid.out ?_)
    refine hidden ?_
    have HO5 : Hid (UpRow x5 w.heap.size v5 (l' ++ [⟨e.u, A, e.n, C⟩])) := HO4.out.snoc HD4.out (by omega) HAp'.out (by rw [hlk]; exact hown5) hg5
    have HB5 : Hid (Below w.heap.size w x5) := (HB4.out.alloc HB4.out.size _).grown hg5 (by simp; omega) (fun q hq => (HO4.out.lts.1 q hq).1)
    have HM5 : Hid ((l' ++ [(⟨e.u, A, e.n, C⟩ : UE)]).map UE.u = (l.map UE.u).take (k + 1)) := by show _ = _; rw [List.map_append]; exact HM2.out
    have HSm5 : Hid (∀ x ∈ l' ++ [(⟨e.u, A, e.n, C⟩ : UE)], ∃ g, x.a = some ⟨g, 0, none⟩) := fun x hx => by
      rcases List.mem_append.1 hx with hx | hx
      · exact HSm.out x hx
      · obtain rfl : x = ⟨e.u, A, e.n, C⟩ := by simpa using hx
        exact ⟨gA, HAe.out.symm⟩
    clear hown5 hg5 HNw HO4' HO4 HD4 HU4 HB4 t0 t1 t2 t3 HM2
    obtain ⟨v5a, v5c, rfl⟩ := HO5.out.shape
    rw [List.length_append, hlk] at HO5 ⊢
    go_wp2_with fail
    go_roundw
    case rel => exact ⟨k + 1, l' ++ [⟨e.u, A, e.n, C⟩], by omega, by simp [hlk], by go_num, HO5, HM5, HSm5, HB5⟩
    case measure => simp [intOf]; omega

end Go.Proofs.YtclkfjlnhcccdaaGreatDoor

namespace Go.Proofs.YtclkfjlnhcccdaaGreatDoor
open Go.RowKit
set_option linter.unusedVariables false

/-- Where the upload with a name stands. -/
def atU (l : List U) (id : ByteArray) : Option Nat := l.findIdx? fun u => decide (u.id = id)

def atI (l : List U) (id : ByteArray) : Int := match atU l id with
  | some k => (k : Int)
  | none => -1

theorem atU_none {l : List U} {id : ByteArray} (h : ∀ k (hk : k < l.length), (l[k]).id ≠ id) : atU l id = none := by
  rw [atU, List.findIdx?_eq_none_iff]
  intro x hx
  obtain ⟨k, hk, rfl⟩ := List.getElem_of_mem hx
  exact decide_eq_false (h k hk)

theorem atU_some {l : List U} {id : ByteArray} {k : Nat} (hk : k < l.length) (h1 : (l[k]).id = id) (h2 : ∀ j (hj : j < l.length), j < k → (l[j]).id ≠ id) : atU l id = some k := by
  rw [atU, List.findIdx?_eq_some_iff_getElem]
  exact ⟨hk, decide_eq_true h1, fun j hj => by simpa using h2 j (by omega) hj⟩

theorem atU_is {l : List U} {id : ByteArray} {k : Nat} (h : atU l id = some k) : ∃ hk : k < l.length, (l[k]).id = id := by
  rw [atU, List.findIdx?_eq_some_iff_getElem] at h
  obtain ⟨hk, h1, _⟩ := h
  exact ⟨hk, by simpa using h1⟩

/-- Whether a name is above another. -/
def gtS (x y : ByteArray) : Bool := !(Op.bytesLess x.toList y.toList || x.toList == y.toList)

/-- Where one with a name is put: behind the last of the first k that is not above it. -/
def insK (l : List U) (id : ByteArray) : Nat → Nat
  | 0 => 0
  | k + 1 => match l[k]? with
    | some u => if gtS u.id id = true then insK l id k else k + 1
    | none => k + 1

theorem insK_le (l : List U) (id : ByteArray) : ∀ k, insK l id k ≤ k := by
  intro k
  induction k with
  | zero => exact Nat.le_refl _
  | succ k ih =>
    rw [insK]
    split
    · split
      · omega
      · exact Nat.le_refl _
    · exact Nat.le_refl _

theorem insK_down {l : List U} {id : ByteArray} {k : Nat} {u : U} (h : l[k]? = some u) (hlt : gtS u.id id = true) : insK l id (k + 1) = insK l id k := by rw [insK, h]; exact if_pos hlt
theorem insK_stop {l : List U} {id : ByteArray} {k : Nat} {u : U} (h : l[k]? = some u) (hlt : ¬ gtS u.id id = true) : insK l id (k + 1) = k + 1 := by rw [insK, h]; exact if_neg hlt

/-- An upload is put in order. -/
def makeU (l : List U) (u : U) : List U := l.take (insK l u.id l.length) ++ u :: l.drop (insK l u.id l.length)

/-- What a record makes; none: it does not fit. -/
def oneU (l : List U) (r : R) : Option (List U) :=
  if r.k = 1 then (if atU l r.id = none ∧ l.length < 10 then some (makeU l ⟨r.id, r.n, [], false⟩) else none)
  else match atU l r.id with
    | none => none
    | some k => match l[k]? with
      | none => none
      | some u =>
        if r.k = 2 then (if u.done = true ∨ r.n ≠ (u.zs.length : Int) ∨ u.want < r.n + (r.zs.length : Int) then none else some (l.set k { u with zs := u.zs ++ r.zs }))
        else if r.k = 3 then (if u.done = true ∨ (u.zs.length : Int) ≠ u.want then none else some (l.set k { u with done := true }))
        else if r.k = 4 then some (l.eraseIdx k) else none

/-- What records make. -/
def foldU (rs : List R) : Option (List U) := rs.foldlM oneU []

theorem foldU_step (rs : List R) (k : Nat) (r : R) (h : rs[k]? = some r) : foldU (rs.take (k + 1)) = (foldU (rs.take k)).bind fun l => oneU l r := by
  rw [List.take_add_one, h, foldU, foldU, List.foldlM_append]
  simp [List.foldlM]

/-- Once nothing fits, nothing does. -/
theorem foldU_stop (rs : List R) (k : Nat) (h : foldU (rs.take k) = none) : foldU rs = none := by
  have e : rs = rs.take k ++ rs.drop k := (List.take_append_drop k rs).symm
  rw [e, foldU, List.foldlM_append]
  rw [foldU] at h
  rw [h]
  rfl

theorem makeU_len (l : List U) (u : U) : (makeU l u).length = l.length + 1 := by
  have := insK_le l u.id l.length
  simp [makeU]
  omega

theorem oneU_len {l l' : List U} {r : R} (h : oneU l r = some l') : l'.length ≤ l.length ∨ l'.length ≤ 10 := by
  rw [oneU] at h
  split at h
  · split at h
    · rename_i hc
      injection h with h
      rw [← h, makeU_len]
      omega
    · cases h
  · split at h
    · cases h
    · split at h
      · cases h
      · split at h
        · split at h
          · cases h
          · injection h with h; rw [← h]; left; simp
        · split at h
          · split at h
            · cases h
            · injection h with h; rw [← h]; left; simp
          · split at h
            · injection h with h; rw [← h]; left; exact List.length_eraseIdx_le ..
            · cases h

end Go.Proofs.YtclkfjlnhcccdaaGreatDoor

namespace Go.Proofs.YtclkfjlnhcccdaaGreatDoor
open Go.RowKit
set_option linter.unusedVariables false

theorem step_append_own {P : Program} {ops : Array Oper} {o : Oper} {a : Act} {w : World} {K : Act → World → Prop} {Q : Exit → Act → World → Prop} {E : Prop}
    (hg : o.guard = none) (s x : Operand) (t : TypeId) (ho : o.op = .call { callee := .builtin .append, args := #[s, x], argTypes := #[t, t] })
    (base : Nat) (e : TypeId) (i : TypeInfo) (z : Value) (size bytes : Nat) (ht : P.underlying t = some (.slice e)) (hi : P.info? e = some i) (hz : i.zero = some z)
    (hsize : i.size = size) (hby : i.bytes = bytes) (hzs : z.cells.size = size) (hsz : 0 < size)
    (v : Value) (n : Nat) (xs : List Value) (hs : a.eval s = v) (hown : w.ownsRow base e size v n xs)
    (ad : Addr) (m c : Nat) (news : List Value) (hx : a.eval x = .slice (some ad) m c) (hl : news.length = m * size) (hnews : ∀ j u, news[j]? = some u → w.cell? (ad.add j) = some u) (h1 : ∀ u ∈ news, u.oneCell' = true)
    (h63 : n + m ≤ maxLen) (hbytes : (n + m) * bytes ≤ 140737488355328) (hbase : base ≤ w.heap.size)
    (h : ∀ v' w', w'.ownsRow base e size v' (n + m) (xs ++ news) → w.grownBy w' v.ownBlock → K (a.put o.dst v') w') :
    if Region.wanted o (yielded ops a.tmps) = true then Oper.wp P o a w K Q else E := by
  have hw : Region.wanted o (yielded ops a.tmps) = true := by simp [Region.wanted, hg]
  rw [if_pos hw]
  exact wp_append_own w s x t ho base e i z size bytes ht hi hz hsize hby hzs hsz v n xs hs hown ad m c news hx hl hnews h1 h63 hbytes hbase fun v' w' h2 h3 _ => h v' w' h2 h3

theorem step_call_same {P : Program} {ops : Array Oper} {o : Oper} {a : Act} {w : World} {K : Act → World → Prop} {Q : Exit → Act → World → Prop} {E : Prop}
    (hg : o.guard = none) (f : FuncId) (x : Operand) (t : TypeId) (ho : o.op = .call { callee := .value (.func f), args := #[x], argTypes := #[t] })
    (hent : ∀ args w, (callFunc f args).run P w = .ok (.enter f args) w) (u v : Value) (hx : a.eval x = u)
    (hc : Calls P f #[u] w fun e w' => e = .returned v ∧ w' = w) (h : K (a.put o.dst v) w) :
    if Region.wanted o (yielded ops a.tmps) = true then Oper.wp P o a w K Q else E := by
  have hw : Region.wanted o (yielded ops a.tmps) = true := by simp [Region.wanted, hg]
  rw [if_pos hw]
  have hf : a.eval (.func f) = .func (.func f) #[] #[] := rfl
  unfold Oper.wp
  simp [execOp, ho, resolve, invoke, Deferred.ofValue, hent, hf, hx, Oper.upon_enter]
  refine hc.mono ?_
  rintro e w' ⟨rfl, rfl⟩
  exact h

end Go.Proofs.YtclkfjlnhcccdaaGreatDoor
