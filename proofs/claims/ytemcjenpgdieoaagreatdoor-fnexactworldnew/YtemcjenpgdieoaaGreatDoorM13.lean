/- A list of bytes as what is appended. No program in it. Rows of bytes that grow: an append as a step of a region that draws, PutBig onto a row of the call's own, a row as a text. An append of whatever may be appended, and where its row lies: where it lay, or behind all. No program in it. What the specification's l14CopyUps answers. Two steps of a region that draws its order: a call that leaves the world as it was, an append onto a row of the call's own. No program in it. What the specification's l14Make answers of an upload without bytes. -/
import Derived.Test.YtemcjenpgdieoaaGreatDoorM01
import Derived.Test.YtemcjenpgdieoaaGreatDoorM10
import Derived.Test.YtemcjenpgdieoaaGreatDoorM04
import Derived.Test.YtemcjenpgdieoaaGreatDoorM02
import Derived.Deep.RegionLaw
import Derived.Laws.IdiomStrings
import Derived.Test.YtemcjenpgdieoaaGreatDoorM03
import Derived.Deep.CutBlock
import Derived.Laws.AppendOwn
import Derived.WalkKit
import Derived.Deep.RegionHeld3
import Derived.StillTailTactics
import Derived.Lib.Strings
namespace Go.Proofs.YtemcjenpgdieoaaGreatDoor
open Go.RowKit
set_option linter.unusedVariables false

theorem ownBlock_of (a : Option Addr) (n cap : Nat) : (Value.slice a n cap).ownBlock = a.map (·.block) := by cases a <;> rfl

theorem seg_nil {w : World} {a : Option Addr} {len : Nat} {zs : List Int} (hs : Seg w a len zs) : a = none → len = 0 := by
  intro h
  rcases hs.2.2 with h0 | ⟨b, off, e, _⟩
  · exact h0
  · rw [h] at e; cases e

theorem seg_src {w : World} {a : Option Addr} {len : Nat} {zs : List Int} (hs : Seg w a len zs) : ∀ ad, a = some ad → ∀ j u, (zs.map (Value.int .u8))[j]? = some u → w.cell? (ad.add j) = some u := by
  intro ad ha j u hj
  have hl2 : j < zs.length := by
    by_cases h : j < zs.length
    · exact h
    · rw [List.getElem?_eq_none (by simp; omega)] at hj; cases hj
  rcases hs.2.2 with h | ⟨b, off, h, _⟩
  · have := hs.1; omega
  · rw [ha] at h
    injection h with h
    subst h
    subst ha
    exact cells_ints hs j u hj

end Go.Proofs.YtemcjenpgdieoaaGreatDoor

namespace Go.Proofs.YtemcjenpgdieoaaGreatDoor
open Go.RowKit
set_option linter.unusedVariables false

theorem step_append_app {P : Program} {ops : Array Oper} {o : Oper} {a : Act} {w : World} {K : Act → World → Prop} {Q : Exit → Act → World → Prop} {E : Prop} (hgd : o.guard = none) (s x : Operand) (t tx : TypeId)
    (ho : o.op = .call { callee := .builtin .append, args := #[s, x], argTypes := #[t, tx] })
    (base : Nat) (e : TypeId) (i : TypeInfo) (z : Value) (size bytes : Nat) (ht : P.underlying t = some (.slice e)) (hi : P.info? e = some i) (hz : i.zero = some z)
    (hsize : i.size = size) (hby : i.bytes = bytes) (hzs : z.cells.size = size) (hsz : 0 < size)
    (g n cap : Nat) (xs : List Value) (hs : a.eval s = .slice (some ⟨g, 0, none⟩) n cap) (hown : w.ownsRow base e size (.slice (some ⟨g, 0, none⟩) n cap) n xs)
    (u : Value) (m : Nat) (news : List Value) (hx : a.eval x = u) (hsrc : Src P size tx u m news w)
    (h63 : n + m ≤ maxLen) (hbytes : (n + m) * bytes ≤ 140737488355328) (hbase : base ≤ w.heap.size) (M : Nat) (hM : n + m = M) (hM0 : 0 < M) (ys : List Value) (hys : xs ++ news = ys)
    (h : ∀ g' c' w', w'.ownsRow base e size (.slice (some ⟨g', 0, none⟩) M c') M ys → w.grownBy w' (some g) → K (a.put o.dst (.slice (some ⟨g', 0, none⟩) M c')) w') :
    if Region.wanted o (yielded ops a.tmps) = true then Oper.wp P o a w K Q else E := by
  have hw : Region.wanted o (yielded ops a.tmps) = true := by simp [Region.wanted, hgd]
  rw [if_pos hw]
  obtain ⟨v', w', hr, h2, h3⟩ := run_append_any (P := P) w base t tx o.type e i z size bytes ht hi hz hsize hby hzs hsz g n cap xs hown u m news hsrc h63 hbytes hbase
  unfold Oper.wp execOp
  simp only [ho, resolve, invoke, builtin, Sem.run_bind, Sem.run_pure, Result.andThen_ok, List.map_toArray, List.map_cons, List.map_nil, hs, hx, hr]
  rw [hM, hys] at h2
  rcases h2.2 with ⟨_, h0⟩ | ⟨g', c', cur, rfl, _⟩
  · omega
  · exact h g' c' w' h2 h3

theorem owns_low {w : World} {base lo n cap : Nat} {a : Option Addr} {zs : List Int} (h : Owns w base a n cap zs) (hl : lo ≤ base) : Owns w lo a n cap zs := ⟨own_low h.1 hl, h.2⟩

/-- Where a row of some bytes lies. -/
theorem owns_at {w : World} {base n cap : Nat} {a : Option Addr} {zs : List Int} (h : Owns w base a n cap zs) (hn : 0 < n) : ∃ g, a = some ⟨g, 0, none⟩ ∧ base ≤ g ∧ g < w.heap.size := by
  rcases h.1.2 with ⟨_, h0⟩ | ⟨g, cap', cur, he, hb, hg, _⟩
  · omega
  · injection he with e1 _ _
    exact ⟨g, e1, hb, (Array.getElem?_eq_some_iff.1 hg).1⟩

/-- A row of bytes as a text. -/
theorem conv_txt {W : World} {g M c : Nat} {zs : List Int} (h : Seg W (some ⟨g, 0, none⟩) M zs) : (convert 47 9 (.slice (some ⟨g, 0, none⟩) M c)).run Tryz.prog W = .ok (.string (txU zs)) W := by
  have hl : (zs.map fun z => UInt8.ofNat z.toNat).length = M := by rw [List.length_map, h.1]
  have hr := run_convert_bytes_back (P := Tryz.prog) W 47 9 5 ⟨g, 0, none⟩ c (zs.map fun z => UInt8.ofNat z.toNat) Tryz.underlying47 (by kernel_rfl) (by kernel_rfl) (by
    intro j hj
    have hjM : j < M := by omega
    have hp : (⟨g, 0, none⟩ : Addr).add j = ⟨g, j, none⟩ := by unfold Addr.add; split <;> simp_all
    rw [hp]
    rcases h.2.2 with h0 | ⟨b, off, e, _, hc⟩
    · omega
    · injection e with e
      injection e with e1 e2 _
      subst e1 e2
      have := hc j hjM
      rw [Nat.zero_add] at this
      rw [this]
      have hjz : j < zs.length := by rw [h.1]; exact hjM
      have hz := h.2.1 zs[j] (List.getElem_mem hjz)
      rw [List.getD_eq_getElem?_getD, List.getElem?_eq_getElem hjz]
      simp
      omega)
  rw [hl] at hr
  exact hr

/-- A part of bytes. -/
theorem Seg.part7 {w : World} {b len : Nat} {zs : List Int} (h : Seg w (some ⟨b, 0, none⟩) len zs) (T n : Nat) (hT : T + n ≤ len) : Seg w (some ⟨b, T, none⟩) n ((zs.drop T).take n) := by
  obtain ⟨h1, h2, h3⟩ := h
  refine ⟨by simp; omega, fun x hx => h2 x (List.mem_of_mem_drop (List.mem_of_mem_take hx)), ?_⟩
  by_cases hn : n = 0
  · exact .inl hn
  · rcases h3 with h0 | ⟨b', off, e, hb, hc⟩
    · omega
    · injection e with e
      injection e with e1 e2 _
      subst e1 e2
      refine .inr ⟨b, T, rfl, hb, fun i hi => ?_⟩
      have := hc (T + i) (by omega)
      rw [Nat.zero_add] at this
      rw [this]
      simp [List.getD_eq_getElem?_getD, List.getElem?_drop, hi]

/-- A part of bytes as a text. -/
theorem conv_txt_at {W : World} {g o M c : Nat} {zs : List Int} (h : Seg W (some ⟨g, o, none⟩) M zs) : (convert 47 9 (.slice (some ⟨g, o, none⟩) M c)).run Tryz.prog W = .ok (.string (txU zs)) W := by
  have hl : (zs.map fun z => UInt8.ofNat z.toNat).length = M := by rw [List.length_map, h.1]
  have hr := run_convert_bytes_back (P := Tryz.prog) W 47 9 5 ⟨g, o, none⟩ c (zs.map fun z => UInt8.ofNat z.toNat) Tryz.underlying47 (by kernel_rfl) (by kernel_rfl) (by
    intro j hj
    have hjM : j < M := by omega
    have hp : (⟨g, o, none⟩ : Addr).add j = ⟨g, o + j, none⟩ := by unfold Addr.add; split <;> simp_all
    rw [hp]
    rcases h.2.2 with h0 | ⟨b, off, e, _, hc⟩
    · omega
    · injection e with e
      injection e with e1 e2 _
      subst e1 e2
      rw [hc j hjM]
      have hjz : j < zs.length := by rw [h.1]; exact hjM
      have hz := h.2.1 zs[j] (List.getElem_mem hjz)
      rw [List.getD_eq_getElem?_getD, List.getElem?_eq_getElem hjz]
      simp
      omega)
  rw [hl] at hr
  exact hr

theorem Seg.src {W : World} {a : Option Addr} {d c : Nat} {zs : List Int} (hs : Seg W a d zs) : Src Tryz.prog 1 47 (.slice a d c) d (zs.map (Value.int .u8)) W := by
  cases a with
  | none =>
    have h0 : d = 0 := seg_nil hs rfl
    subst h0
    obtain rfl : zs = [] := List.eq_nil_of_length_eq_zero hs.1
    exact Src.ofNil _ Tryz.underlying47 c
  | some ad => exact Src.ofSlice _ Tryz.underlying47 ad d c _ (by rw [List.length_map, hs.1, Nat.mul_one]) (seg_src hs ad rfl) (ints_one zs)

theorem byteCells_txI (s : ByteArray) : byteCells s = (txI s).map (Value.int .u8) := by
  simp [byteCells, txI]

end Go.Proofs.YtemcjenpgdieoaaGreatDoor

namespace Go.Proofs.YtemcjenpgdieoaaGreatDoor
open Go.RowKit
set_option linter.unusedVariables false

theorem run_append_loc {P : Program} (w : World) (base : Nat) (t tx ty e : TypeId) (i : TypeInfo) (z : Value) (size bytes : Nat) (ht : P.underlying t = some (.slice e)) (hi : P.info? e = some i) (hz : i.zero = some z)
    (hsize : i.size = size) (hby : i.bytes = bytes) (hzs : z.cells.size = size) (hsz : 0 < size)
    (g n cap : Nat) (xs : List Value) (hown : w.ownsRow base e size (.slice (some ⟨g, 0, none⟩) n cap) n xs)
    (x : Value) (m : Nat) (news : List Value) (hs : Src P size tx x m news w)
    (h63 : n + m ≤ maxLen) (hbytes : (n + m) * bytes ≤ 140737488355328) (hbase : base ≤ w.heap.size) :
    ∃ g' c' w', (Builtin.append_ #[t, tx] ty #[.slice (some ⟨g, 0, none⟩) n cap, x]).run P w = .ok (.slice (some ⟨g', 0, none⟩) (n + m) c') w' ∧ w'.ownsRow base e size (.slice (some ⟨g', 0, none⟩) (n + m) c') (n + m) (xs ++ news) ∧ w.grownBy w' (some g) ∧ (g' = g ∨ g' = w.heap.size) := by
  subst hsize
  subst hby
  have hsmall : n + m ≤ 9223372036854775807 := by simp only [maxLen] at h63; omega
  have hl := hs.newsLen
  have hlen : (xs ++ news).length = (n + m) * i.size := by rw [List.length_append, hown.1, hl, Nat.add_mul]
  rcases hown.2 with ⟨h, _⟩ | ⟨g', cap', cur, heq, hbg, hg, hnc, hcm, hcs, htake⟩
  · cases h
  · injection heq with e1 e2 e3
    injection e1 with e1
    injection e1 with e1
    subst e1
    subst e3
    by_cases hroom : n + m ≤ cap
    · have hfit : n * i.size + news.length ≤ cur.size := by rw [hl, hcs, ← Nat.add_mul]; exact Nat.mul_le_mul_right _ hroom
      have hr := run_room_any w t tx ty e i ht hi g n cap cur hg x m news hs hroom hfit
      refine ⟨_, _, _, hr, ⟨hlen, .inr ⟨g, cap, _, rfl, hbg, setRow_heap w g cur _ e _ hg, hroom, hcm, ?_, ?_⟩⟩, ⟨rfl, rfl, rfl, by simp, fun k _ hk => setRow_other w g k _ (fun e => hk (by simp [e]))⟩, .inl rfl⟩
      · simp only [List.size_toArray, List.length_append, List.length_take, List.length_drop, Array.length_toList]
        omega
      · rw [htake, ← hlen]
        exact List.take_left
    · have holds : ∀ j u, xs[j]? = some u → w.cell? ((⟨g, 0, none⟩ : Addr).add j) = some u := hown.cells (g := g) rfl
      have hold := run_firstCells_some (P := P) w.drew i.size n ⟨g, 0, none⟩ n cap xs hown.1 (by simpa using holds)
      have hr := run_append_grow_src (P := P) w t tx ty e i z ht hi hz (some ⟨g, 0, none⟩) n cap xs hold x m news hs (by omega) (by omega) (growslice_fits (by omega) hbytes)
      have hge := grownCap_ge w (n + m) cap e
      have hcm' : grownCap w (n + m) cap e ≤ maxLen := grownCap_le_maxLen w (n + m) cap e h63
      refine ⟨_, _, _, hr, ⟨hlen, .inr ⟨w.heap.size, _, _, rfl, hbase, heap_alloc_new w.drew _, hge, hcm', ?_, ?_⟩⟩, ⟨rfl, rfl, rfl, by simp, fun k hk _ => heap_alloc_old w.drew _ hk⟩, .inr rfl⟩
      · simp only [Array.size_append, List.size_toArray, size_zeroCells, hzs, hlen, ← Nat.add_mul]
        congr 1
        omega
      · simp only [Array.toList_append]
        rw [← hlen]
        exact List.take_left

theorem wpList_append_loc {P : Program} {w : World} {ops : Array Oper} {rest : List Oper} {o : Oper} {a : Act} {Q : Exit → Act → World → Prop} (hgd : o.guard = none) (s x : Operand) (t tx : TypeId)
    (ho : o.op = .call { callee := .builtin .append, args := #[s, x], argTypes := #[t, tx] })
    (base : Nat) (e : TypeId) (i : TypeInfo) (z : Value) (size bytes : Nat) (ht : P.underlying t = some (.slice e)) (hi : P.info? e = some i) (hz : i.zero = some z)
    (hsize : i.size = size) (hby : i.bytes = bytes) (hzs : z.cells.size = size) (hsz : 0 < size)
    (g n cap : Nat) (xs : List Value) (hs : a.eval s = .slice (some ⟨g, 0, none⟩) n cap) (hown : w.ownsRow base e size (.slice (some ⟨g, 0, none⟩) n cap) n xs)
    (u : Value) (m : Nat) (news : List Value) (hx : a.eval x = u) (hsrc : Src P size tx u m news w)
    (h63 : n + m ≤ maxLen) (hbytes : (n + m) * bytes ≤ 140737488355328) (hbase : base ≤ w.heap.size)
    (h : ∀ g' c' w', w'.ownsRow base e size (.slice (some ⟨g', 0, none⟩) (n + m) c') (n + m) (xs ++ news) → w.grownBy w' (some g) → (g' = g ∨ g' = w.heap.size) → wpList P ops Q rest (a.put o.dst (.slice (some ⟨g', 0, none⟩) (n + m) c')) w') : wpList P ops Q (o :: rest) a w := by
  refine wpList_plain hgd fun K hK => ?_
  obtain ⟨g', c', w', hr, h2, h3, h4⟩ := run_append_loc (P := P) w base t tx o.type e i z size bytes ht hi hz hsize hby hzs hsz g n cap xs hown u m news hsrc h63 hbytes hbase
  unfold Oper.wp execOp
  simp only [ho, resolve, invoke, builtin, Sem.run_bind, Sem.run_pure, Result.andThen_ok, List.map_toArray, List.map_cons, List.map_nil, hs, hx, hr]
  exact hK _ _ (h g' c' w' h2 h3 h4)

theorem step_append_loc {P : Program} {ops : Array Oper} {o : Oper} {a : Act} {w : World} {K : Act → World → Prop} {Q : Exit → Act → World → Prop} {E : Prop} (hgd : o.guard = none) (s x : Operand) (t tx : TypeId)
    (ho : o.op = .call { callee := .builtin .append, args := #[s, x], argTypes := #[t, tx] })
    (base : Nat) (e : TypeId) (i : TypeInfo) (z : Value) (size bytes : Nat) (ht : P.underlying t = some (.slice e)) (hi : P.info? e = some i) (hz : i.zero = some z)
    (hsize : i.size = size) (hby : i.bytes = bytes) (hzs : z.cells.size = size) (hsz : 0 < size)
    (g n cap : Nat) (xs : List Value) (hs : a.eval s = .slice (some ⟨g, 0, none⟩) n cap) (hown : w.ownsRow base e size (.slice (some ⟨g, 0, none⟩) n cap) n xs)
    (u : Value) (m : Nat) (news : List Value) (hx : a.eval x = u) (hsrc : Src P size tx u m news w)
    (h63 : n + m ≤ maxLen) (hbytes : (n + m) * bytes ≤ 140737488355328) (hbase : base ≤ w.heap.size)
    (h : ∀ g' c' w', w'.ownsRow base e size (.slice (some ⟨g', 0, none⟩) (n + m) c') (n + m) (xs ++ news) → w.grownBy w' (some g) → (g' = g ∨ g' = w.heap.size) → K (a.put o.dst (.slice (some ⟨g', 0, none⟩) (n + m) c')) w') :
    if Region.wanted o (yielded ops a.tmps) = true then Oper.wp P o a w K Q else E := by
  have hw : Region.wanted o (yielded ops a.tmps) = true := by simp [Region.wanted, hgd]
  rw [if_pos hw]
  obtain ⟨g', c', w', hr, h2, h3, h4⟩ := run_append_loc (P := P) w base t tx o.type e i z size bytes ht hi hz hsize hby hzs hsz g n cap xs hown u m news hsrc h63 hbytes hbase
  unfold Oper.wp execOp
  simp only [ho, resolve, invoke, builtin, Sem.run_bind, Sem.run_pure, Result.andThen_ok, List.map_toArray, List.map_cons, List.map_nil, hs, hx, hr]
  exact h g' c' w' h2 h3 h4

end Go.Proofs.YtemcjenpgdieoaaGreatDoor

namespace Go.Proofs.YtemcjenpgdieoaaGreatDoor
open Go.RowKit
set_option linter.unusedVariables false

set_option maxRecDepth 10000 in
set_option maxHeartbeats 1600000 in
theorem specCopyU_any (a : Option Addr) (n c lo : Nat) (l : List UE) (w : World) (h : UpRow w lo (.slice a n c) l) (hn : n = l.length) (hl : n ≤ 1048576) (hz : ∀ e ∈ l, e.n ≤ 1099511627776) :
    Calls Tryz.prog 135 #[.slice a n c] w fun e w' => (∃ v l', e = .returned v ∧ UpRow w' w.heap.size v l' ∧ l'.map UE.u = l.map UE.u ∧ ∀ e ∈ l', ∃ g, e.a = some ⟨g, 0, none⟩) ∧ Below w.heap.size w w' := by
  obtain ⟨i0, hi, hz0, hz1, hz2⟩ := info_parts info_up
  obtain ⟨j0, ji, jz0, jz1, jz2⟩ := info_parts Tryz.info5
  have HX : Hid (∀ W, Below w.heap.size w W → UpRow W lo (.slice a n c) l) := fun W hb => h.stays hb
  have HN : Hid (n = l.length) := hn
  have HZ : Hid (∀ e ∈ l, e.n ≤ 1099511627776) := hz
  clear h hn hz
  have HO0 : Hid (UpRow (w.alloc (.cells #[] 147)) w.heap.size (.slice (some ⟨w.heap.size, 0, none⟩) 0 0) []) := UpRow.nil w
  have HB0 : Hid (Below w.heap.size w (w.alloc (.cells #[] 147))) := (Below.refl _ _).alloc (Nat.le_refl _) _
  go_enter Tryz.func135, Tryz.ntmps135
  go_wp2_with fail
  go_loopw [3, 4] (fun v i wr => ∃ (k : Nat) (l' : List UE), k ≤ n ∧ l'.length = k ∧ i = .int .i64 (k : Int) ∧ Hid (UpRow wr w.heap.size v l') ∧ Hid (l'.map UE.u = (l.map UE.u).take k) ∧ Hid (∀ e ∈ l', ∃ g, e.a = some ⟨g, 0, none⟩) ∧ Hid (Below w.heap.size w wr)) (fun _ i _ => n - (intOf i).toNat)
  case atStart => exact ⟨0, [], Nat.zero_le _, rfl, rfl, HO0, rfl, (fun e he => absurd he (List.not_mem_nil)), HB0⟩
  case round =>
    clear HO0 HB0
    obtain ⟨k, l', hk, hlk, rfl, HO, HM, HSm, HW⟩ := hrel
    obtain ⟨va, vc, hve⟩ := HO.out.shape
    subst hve
    rw [hlk] at HO ⊢
    by_cases hlt : k < n
    case neg =>
      obtain rfl : k = n := by omega
      have HF : Hid (l'.map UE.u = l.map UE.u) := by show _ = _; rw [HM.out, List.take_of_length_le (by rw [List.length_map, HN.out]; exact Nat.le_refl _)]
      clear HM
      go_wp2_with fail
      go_ret
      exact ⟨⟨_, l', rfl, HO.out, HF.out, HSm.out⟩, HW.out⟩
    have hkl : k < l.length := by rw [← HN.out]; exact hlt
    have hki : (k : Int) < (n : Int) := by omega
    have hk0 : (0 : Int) ≤ (k : Int) := by omega
    obtain ⟨g, rfl, g0, g1, g2, g3, _⟩ := (HX.out _ HW.out).at HN.out hkl
    have HSg : Hid (Seg wr (l[k]).a (l[k]).n (l[k]).u.zs) := ((HX.out _ HW.out).2.1 (l[k]) (List.getElem_mem hkl)).seg
    have hen : (l[k]).n ≤ 1099511627776 := HZ.out _ (List.getElem_mem hkl)
    have HM2 : Hid (l'.map UE.u ++ [(l[k]).u] = (l.map UE.u).take (k + 1)) := by show _ = _; rw [List.take_add_one, List.getElem?_map, List.getElem?_eq_getElem hkl, HM.out]; rfl
    clear HM
    generalize l[k] = e at *
    have hb1 := (Below.refl wr.heap.size wr).alloc (Nat.le_refl _) (.cells #[.string e.u.id, .int .i64 e.u.want, .slice e.a e.n e.c, .bool e.u.done] 147)
    have HB1 : Hid (Below w.heap.size w (wr.alloc (.cells #[.string e.u.id, .int .i64 e.u.want, .slice e.a e.n e.c, .bool e.u.done] 147))) := HW.out.trans (hb1.mono HW.out.size)
    have HO1 : Hid (UpRow (wr.alloc (.cells #[.string e.u.id, .int .i64 e.u.want, .slice e.a e.n e.c, .bool e.u.done] 147)) w.heap.size (.slice va k vc) l') := HO.out.stays hb1
    have HS1 : Hid (Seg (wr.alloc (.cells #[.string e.u.id, .int .i64 e.u.want, .slice e.a e.n e.c, .bool e.u.done] 147)) e.a e.n e.u.zs) := HSg.out.below hb1
    have HU1 : Hid (BoxN (wr.alloc (.cells #[.string e.u.id, .int .i64 e.u.want, .slice e.a e.n e.c, .bool e.u.done] 147)) wr.heap.size 147 [.string e.u.id, .int .i64 e.u.want, .slice e.a e.n e.c, .bool e.u.done]) := BoxN.new _ _ _
    have hlo : w.heap.size ≤ wr.heap.size := HW.out.size
    have HAp : Hid (∀ x ∈ l', ∀ q, x.a.map (·.block) = some q → q < wr.heap.size) := fun x hx q hq => (HO.out.lts.2 x hx q hq).2
    have HVa : Hid (∀ q, (Value.slice va k vc).ownBlock = some q → q < wr.heap.size) := fun q hq => (HO.out.lts.1 q hq).2
    clear hb1 HSg HW HO
    go_upto_region 6 with fail
    obtain ⟨x1, hx1⟩ : ∃ x1, wr.alloc (.cells #[.string e.u.id, .int .i64 e.u.want, .slice e.a e.n e.c, .bool e.u.done] 147) = x1 := ⟨_, rfl⟩
    rw [hx1] at HB1 HO1 HS1 HU1 ⊢
    clear hx1 g0 g1 g2 g3
    generalize wr.heap.size = bx at *
    have hbx : bx < x1.heap.size := HU1.out.lt
    have hb2 := (Below.refl x1.heap.size x1).alloc (Nat.le_refl _) (.cells #[] 5)
    have HR2 : Hid ((x1.alloc (.cells #[] 5)).ownsRow x1.heap.size 5 1 (.slice (some ⟨x1.heap.size, 0, none⟩) 0 0) 0 []) := World.ownsRow_lit x1 #[] 0 (Nat.le_refl _) (Nat.zero_le _) rfl
    have HSr : Hid (Src Tryz.prog 1 47 (.slice e.a e.n e.c) e.n (e.u.zs.map (Value.int .u8)) (x1.alloc (.cells #[] 5))) := (HS1.out.below hb2).src
    have hU2 := HU1.out.stays hb2
    have u2 := hU2.cell 2 rfl
    have HZr : Hid (∀ x ∈ e.u.zs, 0 ≤ x ∧ x ≤ 255) := HS1.out.2.1
    have HL2 : Hid (x1.heap.size ≤ (x1.alloc (.cells #[] 5)).heap.size) := hb2.size
    go_wp2_with (at_builtin; refine wpList_append_loc rfl _ _ 47 47 rfl x1.heap.size 5 j0 (.int .u8 0) 1 1 Tryz.underlying47 ji jz0 jz1 jz2 rfl (by decide) x1.heap.size 0 0 [] rfl HR2.out (.slice e.a e.n e.c) e.n (e.u.zs.map (Value.int .u8)) rfl HSr.out (by unfold maxLen; omega) (by omega) HL2.out ?_; intro gA C x3 hown3 hg3 _; refine Hid.out ?_)
    refine hidden ?_
    obtain ⟨A, hAe⟩ : ∃ A : Option Addr, some ⟨gA, 0, none⟩ = A := ⟨_, rfl⟩
    have HAe : Hid (some ⟨gA, 0, none⟩ = A) := hAe
    rw [hAe] at hown3 ⊢
    have hown3' : x3.ownsRow x1.heap.size 5 1 (.slice A e.n C) e.n (e.u.zs.map (Value.int .u8)) := by
      have h := hown3
      rw [Nat.zero_add] at h
      simpa using h
    clear hAe
    have ho3 : Owns x3 x1.heap.size A e.n C e.u.zs := ⟨hown3', HZr.out⟩
    have hU3 := hU2.grown hg3 (fun q => by injection q with q; omega)
    have hO3 : UpRow x3 w.heap.size (.slice va k vc) l' := (HO1.out.stays hb2).grown hg3 (fun q hq hq2 => by injection hq with hq; have := HVa.out q hq2; omega) (fun x hx q hq hq2 => by injection hq with hq; have := HAp.out x hx q hq2; omega)
    have hB3 : Below w.heap.size w x3 := (HB1.out.trans (hb2.mono HB1.out.size)).grown hg3 (by have := HB1.out.size; have := hb2.size; omega) (fun q hq => by injection hq with hq; have := HB1.out.size; omega)
    have y2 := hU3.cell 2 rfl
    have z2 := hU3.frozen 2
    have hA : A.map (·.block) ≠ some bx := fun q => by have := (ho3.lt _ q).1; omega
    have hgs : x3.grownBy (x3.setCell ⟨bx, 2, none⟩ (.slice A e.n C)) (some bx) := grownBy_setU x3 bx 2 _
    have HU4 : Hid (BoxN (x3.setCell ⟨bx, 2, none⟩ (.slice A e.n C)) bx 147 [.string e.u.id, .int .i64 e.u.want, .slice A e.n C, .bool e.u.done]) := hU3.set 2 _
    have HO4 : Hid (UpRow (x3.setCell ⟨bx, 2, none⟩ (.slice A e.n C)) w.heap.size (.slice va k vc) l') := hO3.grown hgs (fun q hq hq2 => by injection hq with hq; have := HVa.out q hq2; omega) (fun x hx q hq hq2 => by injection hq with hq; have := HAp.out x hx q hq2; omega)
    have HD4 : Hid (Owns (x3.setCell ⟨bx, 2, none⟩ (.slice A e.n C)) (bx + 1) A e.n C e.u.zs) := owns_low (owns_set ho3 hA) (by omega)
    have HB4 : Hid (Below w.heap.size w (x3.setCell ⟨bx, 2, none⟩ (.slice A e.n C))) := hB3.setCell (by dsimp only; omega) _
    clear hown3 hown3' ho3 hU3 hO3 hB3 hA hgs hg3 hU2 u2 HR2 HSr HB1 HO1 HS1 HU1 hb2 HL2
    go_upto_region 7 with fail
    obtain ⟨x4, hx4⟩ : ∃ x4, (x3.setCell ⟨bx, 2, none⟩ (.slice A e.n C)) = x4 := ⟨_, rfl⟩
    rw [hx4] at HU4 HO4 HD4 HB4 ⊢
    clear hx4 y2 z2
    have hbx4 : bx < x4.heap.size := HU4.out.lt
    have hw4 : w.heap.size ≤ x4.heap.size := HB4.out.size
    obtain ⟨t0, t1, t2, t3⟩ := (show _ ∧ _ ∧ _ ∧ _ from ⟨HU4.out.cell 0 rfl, HU4.out.cell 1 rfl, HU4.out.cell 2 rfl, HU4.out.cell 3 rfl⟩)
    have HNw : Hid (∀ j u, (UE.cells ⟨e.u, A, e.n, C⟩)[j]? = some u → (x4.alloc (.cells #[.string e.u.id, .int .i64 e.u.want, .slice A e.n C, .bool e.u.done] 147)).cell? ((⟨x4.heap.size, 0, none⟩ : Addr).add j) = some u) := four_new x4 e.u A e.n C
    have HO4' : Hid ((x4.alloc (.cells #[.string e.u.id, .int .i64 e.u.want, .slice A e.n C, .bool e.u.done] 147)).ownsRow w.heap.size 147 4 (.slice va k vc) k (ueCells l')) := by
      have h := HO4.out.1.alloc (.cells #[.string e.u.id, .int .i64 e.u.want, .slice A e.n C, .bool e.u.done] 147)
      rw [hlk] at h
      exact h
    have HAp' : Hid (∀ x ∈ l', ∀ q, x.a.map (·.block) = some q → q < bx + 1) := fun x hx q hq => by have := HAp.out x hx q hq; omega
    go_wp2_with (at_builtin; refine wpList_append_own _ rfl _ _ 27 rfl w.heap.size 147 i0 (.agg #[.string ⟨#[]⟩, .int .i64 0, .slice none 0 0, .bool false]) 4 56 Tryz.underlying27 hi hz0 hz1 hz2 rfl (by decide) (.slice va k vc) k _ rfl HO4'.out ⟨x4.heap.size, 0, none⟩ 1 1 (UE.cells ⟨e.u, A, e.n, C⟩) rfl rfl HNw.out (four_one e.u A e.n C) (by unfold maxLen; omega) (by omega) (by simp; omega) ?_; intro v5 x5 hown5 hg5 _; refine Hid.out ?_)
    refine hidden ?_
    have HO5 : Hid (UpRow x5 w.heap.size v5 (l' ++ [⟨e.u, A, e.n, C⟩])) := HO4.out.snoc HD4.out (by omega) HAp'.out (by rw [hlk]; exact hown5) hg5
    have HB5 : Hid (Below w.heap.size w x5) := (HB4.out.alloc HB4.out.size _).grown hg5 (by simp; omega) (fun q hq => (HO4.out.lts.1 q hq).1)
    have HM5 : Hid ((l' ++ [(⟨e.u, A, e.n, C⟩ : UE)]).map UE.u = (l.map UE.u).take (k + 1)) := by show _ = _; rw [List.map_append]; exact HM2.out
    have HSm5 : Hid (∀ x ∈ l' ++ [(⟨e.u, A, e.n, C⟩ : UE)], ∃ g, x.a = some ⟨g, 0, none⟩) := fun x hx => by
      rcases List.mem_append.1 hx with hx | hx
      · exact HSm.out x hx
      · obtain rfl : x = ⟨e.u, A, e.n, C⟩ := by simpa using hx
        exact ⟨gA, HAe.out.symm⟩
    clear hown5 hg5 HNw HO4' HO4 HD4 HU4 HB4 t0 t1 t2 t3 HM2
    obtain ⟨v5a, v5c, rfl⟩ := HO5.out.shape
    rw [List.length_append, hlk] at HO5 ⊢
    go_wp2_with fail
    go_roundw
    case rel => exact ⟨k + 1, l' ++ [⟨e.u, A, e.n, C⟩], by omega, by simp [hlk], by go_num, HO5, HM5, HSm5, HB5⟩
    case measure => simp [intOf]; omega

end Go.Proofs.YtemcjenpgdieoaaGreatDoor

namespace Go.Proofs.YtemcjenpgdieoaaGreatDoor
open Go.RowKit
set_option linter.unusedVariables false

theorem step_append_own {P : Program} {ops : Array Oper} {o : Oper} {a : Act} {w : World} {K : Act → World → Prop} {Q : Exit → Act → World → Prop} {E : Prop}
    (hg : o.guard = none) (s x : Operand) (t : TypeId) (ho : o.op = .call { callee := .builtin .append, args := #[s, x], argTypes := #[t, t] })
    (base : Nat) (e : TypeId) (i : TypeInfo) (z : Value) (size bytes : Nat) (ht : P.underlying t = some (.slice e)) (hi : P.info? e = some i) (hz : i.zero = some z)
    (hsize : i.size = size) (hby : i.bytes = bytes) (hzs : z.cells.size = size) (hsz : 0 < size)
    (v : Value) (n : Nat) (xs : List Value) (hs : a.eval s = v) (hown : w.ownsRow base e size v n xs)
    (ad : Addr) (m c : Nat) (news : List Value) (hx : a.eval x = .slice (some ad) m c) (hl : news.length = m * size) (hnews : ∀ j u, news[j]? = some u → w.cell? (ad.add j) = some u) (h1 : ∀ u ∈ news, u.oneCell' = true)
    (h63 : n + m ≤ maxLen) (hbytes : (n + m) * bytes ≤ 140737488355328) (hbase : base ≤ w.heap.size)
    (h : ∀ v' w', w'.ownsRow base e size v' (n + m) (xs ++ news) → w.grownBy w' v.ownBlock → K (a.put o.dst v') w') :
    if Region.wanted o (yielded ops a.tmps) = true then Oper.wp P o a w K Q else E := by
  have hw : Region.wanted o (yielded ops a.tmps) = true := by simp [Region.wanted, hg]
  rw [if_pos hw]
  exact wp_append_own w s x t ho base e i z size bytes ht hi hz hsize hby hzs hsz v n xs hs hown ad m c news hx hl hnews h1 h63 hbytes hbase fun v' w' h2 h3 _ => h v' w' h2 h3

theorem step_call_same {P : Program} {ops : Array Oper} {o : Oper} {a : Act} {w : World} {K : Act → World → Prop} {Q : Exit → Act → World → Prop} {E : Prop}
    (hg : o.guard = none) (f : FuncId) (x : Operand) (t : TypeId) (ho : o.op = .call { callee := .value (.func f), args := #[x], argTypes := #[t] })
    (hent : ∀ args w, (callFunc f args).run P w = .ok (.enter f args) w) (u v : Value) (hx : a.eval x = u)
    (hc : Calls P f #[u] w fun e w' => e = .returned v ∧ w' = w) (h : K (a.put o.dst v) w) :
    if Region.wanted o (yielded ops a.tmps) = true then Oper.wp P o a w K Q else E := by
  have hw : Region.wanted o (yielded ops a.tmps) = true := by simp [Region.wanted, hg]
  rw [if_pos hw]
  have hf : a.eval (.func f) = .func (.func f) #[] #[] := rfl
  unfold Oper.wp
  simp [execOp, ho, resolve, invoke, Deferred.ofValue, hent, hf, hx, Oper.upon_enter]
  refine hc.mono ?_
  rintro e w' ⟨rfl, rfl⟩
  exact h

end Go.Proofs.YtemcjenpgdieoaaGreatDoor

namespace Go.Proofs.YtemcjenpgdieoaaGreatDoor
open Go.RowKit
set_option linter.unusedVariables false

theorem lit_stays {W W' : World} {g : Nat} {xs : List Value} (h : ∀ j u, xs[j]? = some u → W.cell? ((⟨g, 0, none⟩ : Addr).add j) = some u) (hg : g < W.heap.size) (hb : Below W.heap.size W W') : ∀ j u, xs[j]? = some u → W'.cell? ((⟨g, 0, none⟩ : Addr).add j) = some u := by
  intro j u hj
  have hp : (⟨g, 0, none⟩ : Addr).add j = ⟨g, j, none⟩ := by unfold Addr.add; split <;> simp_all
  have h1 := h j u hj
  rw [hp] at h1 ⊢
  exact (hb.cell (p := ⟨g, j, none⟩) hg).trans h1

theorem ueCells_putM (M D : List UE) (x e : UE) : ((((ueCells (M ++ x :: D)).set (M.length * 4) (.string e.u.id)).set (M.length * 4 + 1) (.int .i64 e.u.want)).set (M.length * 4 + 2) (.slice e.a e.n e.c)).set (M.length * 4 + 3) (.bool e.u.done) = ueCells (M ++ e :: D) := by
  have hl := ueCells_len M
  rw [ueCells_append, ueCells_append, ueCells_cons, ueCells_cons]
  rw [List.set_append_right _ _ (by omega), hl, Nat.sub_self, List.set_cons_zero]
  rw [List.set_append_right _ _ (by omega), hl, show M.length * 4 + 1 - M.length * 4 = 1 by omega]
  rw [List.set_append_right _ _ (by omega), hl, show M.length * 4 + 2 - M.length * 4 = 2 by omega]
  rw [List.set_append_right _ _ (by omega), hl, show M.length * 4 + 3 - M.length * 4 = 3 by omega]
  rfl

/-- An element of a row is written over. -/
theorem row_put {W : World} {base g n c k : Nat} {M D : List UE} {x : UE} (e : UE) (h : W.ownsRow base 147 4 (.slice (some ⟨g, 0, none⟩) n c) n (ueCells (M ++ x :: D))) (hk : M.length = k) :
    (((((W).setCell ⟨g, k * 4, none⟩ (.string e.u.id)).setCell ⟨g, k * 4 + 1, none⟩ (.int .i64 e.u.want)).setCell ⟨g, k * 4 + 2, none⟩ (.slice e.a e.n e.c)).setCell ⟨g, k * 4 + 3, none⟩ (.bool e.u.done)).ownsRow base 147 4 (.slice (some ⟨g, 0, none⟩) n c) n (ueCells (M ++ e :: D)) ∧ W.grownBy (((((W).setCell ⟨g, k * 4, none⟩ (.string e.u.id)).setCell ⟨g, k * 4 + 1, none⟩ (.int .i64 e.u.want)).setCell ⟨g, k * 4 + 2, none⟩ (.slice e.a e.n e.c)).setCell ⟨g, k * 4 + 3, none⟩ (.bool e.u.done)) (some g) := by
  subst hk
  have h1 := h.stored (M.length * 4) (.string e.u.id)
  have h2 := h1.1.stored (M.length * 4 + 1) (.int .i64 e.u.want)
  have h3 := h2.1.stored (M.length * 4 + 2) (.slice e.a e.n e.c)
  have h4 := h3.1.stored (M.length * 4 + 3) (.bool e.u.done)
  have a1 : World.grownBy _ _ (some g) := h1.2
  have a2 : World.grownBy _ _ (some g) := h2.2
  have a3 : World.grownBy _ _ (some g) := h3.2
  have a4 : World.grownBy _ _ (some g) := h4.2
  have h6 := h4.1
  rw [ueCells_putM] at h6
  exact ⟨h6, grow_transU (grow_transU (grow_transU a1 a2) a3) a4⟩

/-- The cells of an element of a row. -/
theorem row_at {W : World} {base g n c : Nat} {l : List UE} (h : W.ownsRow base 147 4 (.slice (some ⟨g, 0, none⟩) n c) n (ueCells l)) {i : Nat} {e : UE} (hi : l[i]? = some e) :
    W.cell? ⟨g, i * 4, none⟩ = some (.string e.u.id) ∧ W.cell? ⟨g, i * 4 + 1, none⟩ = some (.int .i64 e.u.want) ∧ W.cell? ⟨g, i * 4 + 2, none⟩ = some (.slice e.a e.n e.c) ∧ W.cell? ⟨g, i * 4 + 3, none⟩ = some (.bool e.u.done) ∧ ∀ j, W.frozen? ⟨g, j, none⟩ = false := by
  obtain ⟨hil, rfl⟩ := List.getElem?_eq_some_iff.1 hi
  have hl := ueCells_len l
  have hln : l.length * 4 = n * 4 := by rw [← hl]; exact h.1
  obtain ⟨h0, h1, h2, h3⟩ := ueCells_at l i hil
  refine ⟨?_, ?_, ?_, ?_, fun j => h.frozenAt j⟩
  · rw [h.cellAt _ (by omega)]; exact h0
  · rw [h.cellAt _ (by omega)]; exact h1
  · rw [h.cellAt _ (by omega)]; exact h2
  · rw [h.cellAt _ (by omega)]; exact h3

/-- An upload without bytes more in a row. -/
theorem UpRow.pushNil {W W' : World} {base : Nat} {v v' : Value} {l : List UE} {u : U} (h : UpRow W base v l) (hz : u.zs = []) (ho : W'.ownsRow base 147 4 v' (l.length + 1) (ueCells l ++ UE.cells ⟨u, none, 0, 0⟩)) (hg : W.grownBy W' v.ownBlock) : UpRow W' base v' (l ++ [⟨u, none, 0, 0⟩]) := by
  refine ⟨?_, ?_, ?_⟩
  · rw [List.length_append, ueCells_append, show ueCells [⟨u, none, 0, 0⟩] = UE.cells ⟨u, none, 0, 0⟩ by simp [ueCells]]
    exact ho
  · intro x hx
    rcases List.mem_append.1 hx with hx | hx
    · exact (h.2.1 x hx).grown hg (fun q hq => h.rowApart (h.2.1 x hx) q hq)
    · obtain rfl : x = ⟨u, none, 0, 0⟩ := by simpa using hx
      rw [hz]
      exact ⟨⟨rfl, .inl ⟨rfl, rfl⟩⟩, by simp⟩
  · rw [List.pairwise_append]
    refine ⟨h.2.2, by simp, fun x hx y hy q hq hq2 => ?_⟩
    obtain rfl : y = ⟨u, none, 0, 0⟩ := by simpa using hy
    cases hq2

set_option maxRecDepth 10000 in
set_option maxHeartbeats 1600000 in
theorem specMakeU_any (a : Option Addr) (n c lo : Nat) (l : List UE) (id : ByteArray) (want : Int) (w : World) (h : UpRow w lo (.slice a n c) l) (hn : n = l.length) (hl : n ≤ 100000) (hz : ∀ e ∈ l, e.n ≤ 1099511627776) :
    Calls Tryz.prog 134 #[.slice a n c, .agg #[.string id, .int .i64 want, .slice none 0 0, .bool false]] w fun e w' => (∃ v l', e = .returned v ∧ UpRow w' w.heap.size v l' ∧ l'.map UE.u = makeU (l.map UE.u) ⟨id, want, [], false⟩) ∧ Below w.heap.size w w' := by
  obtain ⟨i0, hi, hz0, hz1, hz2⟩ := info_parts info_up
  obtain ⟨w0, hw0⟩ : ∃ w0, w.alloc (.cells #[.string id, .int .i64 want, .slice none 0 0, .bool false] 147) = w0 := ⟨_, rfl⟩
  have HE : Hid (w.alloc (.cells #[.string id, .int .i64 want, .slice none 0 0, .bool false] 147) = w0) := hw0
  have HQ : Hid (BoxN w0 w.heap.size 147 [.string id, .int .i64 want, .slice none 0 0, .bool false]) := by show BoxN _ _ _ _; rw [← hw0]; exact BoxN.new _ _ _
  have HB : Hid (Below w.heap.size w w0) := by show Below _ _ _; rw [← hw0]; exact (Below.refl _ _).alloc (Nat.le_refl _) _
  have HX : Hid (∀ W, Below w0.heap.size w0 W → UpRow W lo (.slice a n c) l ∧ BoxN W w.heap.size 147 [.string id, .int .i64 want, .slice none 0 0, .bool false]) := fun W hb => ⟨(h.stays HB.out).stays hb, HQ.out.stays hb⟩
  have HN : Hid (n = l.length) := hn
  have HZ : Hid (∀ e ∈ l, e.n ≤ 1099511627776) := hz
  clear hw0 h hn hz
  go_enter Tryz.func134, Tryz.ntmps134
  go_upto_region 1 with fail
  rw [HE.out]
  clear HE HQ
  have bA : Below w0.heap.size w0 w0.drew := (Below.refl _ _).drew
  have bL : Below w0.heap.size w0 (w0.alloc (.cells #[.string id, .int .i64 want, .slice none 0 0, .bool false] 147)).drew := ((Below.refl _ _).alloc (Nat.le_refl _) _).drew
  have HA : Hid (Below w0.heap.size w0 w0.drew) := bA
  have HL : Hid (Below w0.heap.size w0 (w0.alloc (.cells #[.string id, .int .i64 want, .slice none 0 0, .bool false] 147)).drew) := bL
  have HLn : Hid (∀ j u, (UE.cells (⟨⟨id, want, [], false⟩, none, 0, 0⟩ : UE))[j]? = some u → (w0.alloc (.cells #[.string id, .int .i64 want, .slice none 0 0, .bool false] 147)).drew.cell? ((⟨w0.heap.size, 0, none⟩ : Addr).add j) = some u) := four_new w0 ⟨id, want, [], false⟩ none 0 0
  have HLs : Hid (w0.heap.size < (w0.alloc (.cells #[.string id, .int .i64 want, .slice none 0 0, .bool false] 147)).drew.heap.size) := by show _ < (w0.alloc (.cells #[.string id, .int .i64 want, .slice none 0 0, .bool false] 147)).heap.size; simp
  clear bA bL
  go_cut [5] from 7 (fun v W => ∃ (L : List UE), L.length = n ∧ Hid (UpRow W w0.heap.size v (L ++ [(⟨⟨id, want, [], false⟩, none, 0, 0⟩ : UE)])) ∧ Hid (L.map UE.u = l.map UE.u) ∧ Hid (Below w0.heap.size w0 W))
  case first =>
    obtain ⟨k0, k1, k2, k3⟩ := (show _ ∧ _ ∧ _ ∧ _ from ⟨(HX.out _ HA.out).2.cell 0 rfl, (HX.out _ HA.out).2.cell 1 rfl, (HX.out _ HA.out).2.cell 2 rfl, (HX.out _ HA.out).2.cell 3 rfl⟩)
    obtain ⟨l0, l1, l2, l3⟩ := (show _ ∧ _ ∧ _ ∧ _ from ⟨(HX.out _ HL.out).2.cell 0 rfl, (HX.out _ HL.out).2.cell 1 rfl, (HX.out _ HL.out).2.cell 2 rfl, (HX.out _ HL.out).2.cell 3 rfl⟩)
    go_region_held3 (fun W => W.cell? ⟨w.heap.size, 0, none⟩ = some (.string id) ∧ W.cell? ⟨w.heap.size, 1, none⟩ = some (.int .i64 want) ∧ W.cell? ⟨w.heap.size, 2, none⟩ = some (.slice none 0 0) ∧ W.cell? ⟨w.heap.size, 3, none⟩ = some (.bool false)) (first | (refine ⟨?_, ?_, ?_, ?_⟩ <;> assumption) | go_keep) (first
      | (refine step_append_own rfl (.tmp 8) (.tmp 10) 27 rfl w0.heap.size 147 i0 (.agg #[.string ⟨#[]⟩, .int .i64 0, .slice none 0 0, .bool false]) 4 56 Tryz.underlying27 hi hz0 hz1 hz2 rfl (by decide) (.slice va n vc) n (ueCells L) rfl (hrowA.alloc _) ⟨y1.heap.size, 0, none⟩ 1 1 (UE.cells (⟨⟨id, want, [], false⟩, none, 0, 0⟩ : UE)) rfl rfl (four_new y1 ⟨id, want, [], false⟩ none 0 0) (four_one ⟨id, want, [], false⟩ none 0 0) (by unfold maxLen; omega) (by omega) (by have := hB1.size; simp; omega) ?_; intro v2 y2 hown2 hg2
         have hordA2 := hordA
         have hB2 : Below w0.heap.size w0 y2 := (hB1.alloc hB1.size _).grown hg2 (by have := hB1.size; simp; omega) (fun q hq => (hrowA.lt q hq).1)
         obtain ⟨t0, t1, t2, t3⟩ := (show _ ∧ _ ∧ _ ∧ _ from ⟨(HX.out _ hB2).2.cell 0 rfl, (HX.out _ hB2).2.cell 1 rfl, (HX.out _ hB2).2.cell 2 rfl, (HX.out _ hB2).2.cell 3 rfl⟩))
      | (refine step_append_own rfl (.tmp 8) (.tmp 10) 27 rfl w0.heap.size 147 i0 (.agg #[.string ⟨#[]⟩, .int .i64 0, .slice none 0 0, .bool false]) 4 56 Tryz.underlying27 hi hz0 hz1 hz2 rfl (by decide) (.slice va n vc) n (ueCells L) rfl hrowB ⟨w0.heap.size, 0, none⟩ 1 1 (UE.cells (⟨⟨id, want, [], false⟩, none, 0, 0⟩ : UE)) rfl rfl hcB (four_one ⟨id, want, [], false⟩ none 0 0) (by unfold maxLen; omega) (by omega) hB1.size ?_; intro v2 y2 hown2 hg2
         have hordB2 := hordB
         have hB2 : Below w0.heap.size w0 y2 := hB1.grown hg2 hB1.size (fun q hq => (hrowB.lt q hq).1)
         obtain ⟨t0, t1, t2, t3⟩ := (show _ ∧ _ ∧ _ ∧ _ from ⟨(HX.out _ hB2).2.cell 0 rfl, (HX.out _ hB2).2.cell 1 rfl, (HX.out _ hB2).2.cell 2 rfl, (HX.out _ hB2).2.cell 3 rfl⟩))
      | (go_at_call 135; refine (specCopyU_any a n c lo l w0.drew (HX.out _ HA.out).1 HN.out (by omega) HZ.out).mono ?_; rintro _ y1 ⟨⟨v1, L, rfl, hrow, hmp, _⟩, hb1⟩
         obtain ⟨va, vc, hve⟩ := hrow.shape
         have hLn : L.length = n := (by have h1 := congrArg List.length hmp; rw [List.length_map, List.length_map] at h1; rw [h1, HN.out])
         rw [hLn] at hve
         subst hve
         have hrow' := hrow.1
         rw [hLn] at hrow'
         have hB1 : Below w0.heap.size w0 y1 := HA.out.trans (hb1.mono HA.out.size)
         have hordA : True := trivial
         have hrowA := own_low hrow' (show w0.heap.size ≤ w0.drew.heap.size from Nat.le_refl _)
         obtain ⟨m0, m1, m2, m3⟩ := (show _ ∧ _ ∧ _ ∧ _ from ⟨(HX.out _ hB1).2.cell 0 rfl, (HX.out _ hB1).2.cell 1 rfl, (HX.out _ hB1).2.cell 2 rfl, (HX.out _ hB1).2.cell 3 rfl⟩)
         have hBl : Below w0.heap.size w0 (y1.alloc (.cells #[.string id, .int .i64 want, .slice none 0 0, .bool false] 147)) := hB1.alloc hB1.size _
         obtain ⟨n0, n1, n2, n3⟩ := (show _ ∧ _ ∧ _ ∧ _ from ⟨(HX.out _ hBl).2.cell 0 rfl, (HX.out _ hBl).2.cell 1 rfl, (HX.out _ hBl).2.cell 2 rfl, (HX.out _ hBl).2.cell 3 rfl⟩))
      | (go_at_call 135; refine (specCopyU_any a n c lo l (w0.alloc (.cells #[.string id, .int .i64 want, .slice none 0 0, .bool false] 147)).drew (HX.out _ HL.out).1 HN.out (by omega) HZ.out).mono ?_; rintro _ y1 ⟨⟨v1, L, rfl, hrow, hmp, _⟩, hb1⟩
         obtain ⟨va, vc, hve⟩ := hrow.shape
         have hLn : L.length = n := (by have h1 := congrArg List.length hmp; rw [List.length_map, List.length_map] at h1; rw [h1, HN.out])
         rw [hLn] at hve
         subst hve
         have hrow' := hrow.1
         rw [hLn] at hrow'
         have hB1 : Below w0.heap.size w0 y1 := HL.out.trans (hb1.mono HL.out.size)
         have hordB : True := trivial
         have hrowB := own_low hrow' (show w0.heap.size ≤ (w0.alloc (.cells #[.string id, .int .i64 want, .slice none 0 0, .bool false] 147)).drew.heap.size from HL.out.size)
         have hcB : ∀ j u, (UE.cells (⟨⟨id, want, [], false⟩, none, 0, 0⟩ : UE))[j]? = some u → y1.cell? ((⟨w0.heap.size, 0, none⟩ : Addr).add j) = some u := lit_stays HLn.out HLs.out hb1
         obtain ⟨m0, m1, m2, m3⟩ := (show _ ∧ _ ∧ _ ∧ _ from ⟨(HX.out _ hB1).2.cell 0 rfl, (HX.out _ hB1).2.cell 1 rfl, (HX.out _ hB1).2.cell 2 rfl, (HX.out _ hB1).2.cell 3 rfl⟩))
      | fail)
    all_goals
      have HU : Hid (UpRow y2 w0.heap.size v2 (L ++ [(⟨⟨id, want, [], false⟩, none, 0, 0⟩ : UE)])) := (by first
        | (have hA2 := hordA2; exact ((hrow.stays ((Below.refl _ _).alloc (Nat.le_refl _) (.cells #[.string id, .int .i64 want, .slice none 0 0, .bool false] 147))).low (Nat.le_refl _)).pushNil rfl (by rw [hLn]; exact hown2) hg2)
        | (have hB2' := hordB2; exact (hrow.low HL.out.size).pushNil rfl (by rw [hLn]; exact hown2) hg2))
      have HM : Hid (L.map UE.u = l.map UE.u) := hmp
      have HB2 : Hid (Below w0.heap.size w0 y2) := hB2
      have hL := hLn
      clear hown2 hg2 hrow hrow' hmp hB1 hB2 hb1 m0 m1 m2 m3 t0 t1 t2 t3 k0 k1 k2 k3 l0 l1 l2 l3
      go_wp2_with fail
      go_meet
      exact ⟨L, hL, HU, HM, HB2⟩
  case rest =>
  obtain ⟨x1, hx1⟩ : ∃ x1, wc = x1 := ⟨_, rfl⟩
  rw [hx1] at hcut ⊢
  clear hx1 HA HL HLn HLs
  obtain ⟨L, hL, HU, HM, HB1⟩ := hcut
  have hLl : (L ++ [(⟨⟨id, want, [], false⟩, none, 0, 0⟩ : UE)]).length = n + 1 := by simp [hL]
  obtain ⟨va, vc, hve⟩ := HU.out.shape
  rw [hLl] at hve
  subst hve
  obtain ⟨g, rfl, _⟩ := HU.out.at hLl.symm (i := 0) (by omega)
  have HO1 : Hid (x1.ownsRow w0.heap.size 147 4 (.slice (some ⟨g, 0, none⟩) (n + 1) vc) (n + 1) (ueCells (L.take n ++ (⟨⟨id, want, [], false⟩, none, 0, 0⟩ : UE) :: L.drop n))) := by
    have h := HU.out.1
    rw [hLl] at h
    rw [← hL, List.take_length, List.drop_length]
    rw [← hL] at h
    exact h
  have HE1 : Hid (∀ e ∈ L, Owns x1 w0.heap.size e.a e.n e.c e.u.zs ∧ ∀ q, e.a.map (·.block) = some q → q ≠ g) := fun e he => ⟨HU.out.2.1 e (List.mem_append_left _ he), fun q hq hqg => HU.out.rowApart (HU.out.2.1 e (List.mem_append_left _ he)) g rfl (by rw [← hqg]; exact hq)⟩
  have HNe : Hid (∀ e ∈ L, ∀ q, e.a.map (·.block) = some q → q ≠ g) := fun e he => (HE1.out e he).2
  have HPw : Hid (L.Pairwise uapart) := (List.pairwise_append.1 HU.out.2.2).1
  have hg0 : w0.heap.size ≤ g := (HU.out.lts.1 g rfl).1
  have hww0 : w.heap.size < w0.heap.size := (HX.out w0 (Below.refl _ _)).2.lt
  clear HU
  go_wp2_with fail
  go_loopw [6] (fun v wr => ∃ (k : Nat) (x : UE), v = .int .i64 (k : Int) ∧ k ≤ n ∧ Hid (wr.ownsRow w0.heap.size 147 4 (.slice (some ⟨g, 0, none⟩) (n + 1) vc) (n + 1) (ueCells (L.take k ++ x :: L.drop k))) ∧ Hid (insK (L.map UE.u) id n = insK (L.map UE.u) id k) ∧ Hid (∀ e ∈ L, Owns wr w0.heap.size e.a e.n e.c e.u.zs) ∧ Hid (Below w0.heap.size w0 wr)) (fun v _ => (intOf v).toNat)
  case atStart => exact ⟨n, (⟨⟨id, want, [], false⟩, none, 0, 0⟩ : UE), by go_num, Nat.le_refl _, HO1, rfl, fun e he => (HE1.out e he).1, HB1⟩
  case round =>
    obtain ⟨k, x, rfl, hkn, HO, HI, HE, HW⟩ := hrel
    clear HO1 HB1
    obtain ⟨b0, b1, b2, b3⟩ := (show _ ∧ _ ∧ _ ∧ _ from ⟨(HX.out _ HW.out).2.cell 0 rfl, (HX.out _ HW.out).2.cell 1 rfl, (HX.out _ HW.out).2.cell 2 rfl, (HX.out _ HW.out).2.cell 3 rfl⟩)
    have HFin : Hid (∀ W, Below wr.heap.size wr W → insK (L.map UE.u) id n = k → UpRow (((((W).setCell ⟨g, k * 4, none⟩ (.string (⟨⟨id, want, [], false⟩, none, 0, 0⟩ : UE).u.id)).setCell ⟨g, k * 4 + 1, none⟩ (.int .i64 (⟨⟨id, want, [], false⟩, none, 0, 0⟩ : UE).u.want)).setCell ⟨g, k * 4 + 2, none⟩ (.slice (⟨⟨id, want, [], false⟩, none, 0, 0⟩ : UE).a (⟨⟨id, want, [], false⟩, none, 0, 0⟩ : UE).n (⟨⟨id, want, [], false⟩, none, 0, 0⟩ : UE).c)).setCell ⟨g, k * 4 + 3, none⟩ (.bool (⟨⟨id, want, [], false⟩, none, 0, 0⟩ : UE).u.done)) w.heap.size (.slice (some ⟨g, 0, none⟩) (n + 1) vc) (L.take k ++ (⟨⟨id, want, [], false⟩, none, 0, 0⟩ : UE) :: L.drop k) ∧ Below w.heap.size w (((((W).setCell ⟨g, k * 4, none⟩ (.string (⟨⟨id, want, [], false⟩, none, 0, 0⟩ : UE).u.id)).setCell ⟨g, k * 4 + 1, none⟩ (.int .i64 (⟨⟨id, want, [], false⟩, none, 0, 0⟩ : UE).u.want)).setCell ⟨g, k * 4 + 2, none⟩ (.slice (⟨⟨id, want, [], false⟩, none, 0, 0⟩ : UE).a (⟨⟨id, want, [], false⟩, none, 0, 0⟩ : UE).n (⟨⟨id, want, [], false⟩, none, 0, 0⟩ : UE).c)).setCell ⟨g, k * 4 + 3, none⟩ (.bool (⟨⟨id, want, [], false⟩, none, 0, 0⟩ : UE).u.done)) ∧ (L.take k ++ (⟨⟨id, want, [], false⟩, none, 0, 0⟩ : UE) :: L.drop k).map UE.u = makeU (l.map UE.u) ⟨id, want, [], false⟩) := fun W hb hik => by
      have hkl : (L.take k).length = k := by simp; omega
      obtain ⟨r1, r2⟩ := row_put (⟨⟨id, want, [], false⟩, none, 0, 0⟩ : UE) (own_below HO.out hb) hkl
      have hsz := HW.out.size
      have hbW : Below w0.heap.size w0 W := HW.out.trans (hb.mono HW.out.size)
      have hbF : Below w0.heap.size w0 (((((W).setCell ⟨g, k * 4, none⟩ (.string (⟨⟨id, want, [], false⟩, none, 0, 0⟩ : UE).u.id)).setCell ⟨g, k * 4 + 1, none⟩ (.int .i64 (⟨⟨id, want, [], false⟩, none, 0, 0⟩ : UE).u.want)).setCell ⟨g, k * 4 + 2, none⟩ (.slice (⟨⟨id, want, [], false⟩, none, 0, 0⟩ : UE).a (⟨⟨id, want, [], false⟩, none, 0, 0⟩ : UE).n (⟨⟨id, want, [], false⟩, none, 0, 0⟩ : UE).c)).setCell ⟨g, k * 4 + 3, none⟩ (.bool (⟨⟨id, want, [], false⟩, none, 0, 0⟩ : UE).u.done)) := hbW.grown r2 hbW.size (fun q hq => by injection hq with hq; omega)
      refine ⟨⟨?_, fun e he => ?_, ?_⟩, HB.out.trans (hbF.mono HB.out.size), ?_⟩
      · rw [show (L.take k ++ (⟨⟨id, want, [], false⟩, none, 0, 0⟩ : UE) :: L.drop k).length = n + 1 by simp; omega]
        exact own_low r1 (by omega)
      · have key : e ∈ L → Owns (((((W).setCell ⟨g, k * 4, none⟩ (.string (⟨⟨id, want, [], false⟩, none, 0, 0⟩ : UE).u.id)).setCell ⟨g, k * 4 + 1, none⟩ (.int .i64 (⟨⟨id, want, [], false⟩, none, 0, 0⟩ : UE).u.want)).setCell ⟨g, k * 4 + 2, none⟩ (.slice (⟨⟨id, want, [], false⟩, none, 0, 0⟩ : UE).a (⟨⟨id, want, [], false⟩, none, 0, 0⟩ : UE).n (⟨⟨id, want, [], false⟩, none, 0, 0⟩ : UE).c)).setCell ⟨g, k * 4 + 3, none⟩ (.bool (⟨⟨id, want, [], false⟩, none, 0, 0⟩ : UE).u.done)) w.heap.size e.a e.n e.c e.u.zs := fun h => ((((HE.out e h).below hb).grown r2 (fun q hq hq2 => by injection hq with hq; exact HNe.out e h q hq2 hq.symm))).low (by omega)
        rcases List.mem_append.1 he with h | h
        · exact key (List.mem_of_mem_take h)
        · rcases List.mem_cons.1 h with rfl | h
          · exact ⟨⟨rfl, .inl ⟨rfl, rfl⟩⟩, by simp⟩
          · exact key (List.mem_of_mem_drop h)
      · have hp := HPw.out
        rw [← List.take_append_drop k L, List.pairwise_append] at hp
        rw [List.pairwise_append, List.pairwise_cons]
        refine ⟨hp.1, ⟨fun y _ q hq => (by cases hq), hp.2.1⟩, fun x hx y hy => ?_⟩
        rcases List.mem_cons.1 hy with rfl | hy
        · intro q _ hq2; cases hq2
        · exact hp.2.2 x hx y hy
      · rw [makeU, ← HM.out, List.map_append, List.map_cons, List.map_take, List.map_drop, List.length_map, hL, hik]
    by_cases hk : k = 0
    · subst hk
      have hx0 : (L.take 0 ++ x :: L.drop 0)[0]? = some x := by simp
      obtain ⟨g0, g1, g2, g3, gf⟩ := row_at HO.out hx0
      have hn1 : (0 : Int) < ((n + 1 : Nat) : Int) := by omega
      have HF2 := (show Hid _ from fun W hb => HFin.out W hb (by rw [HI.out]; rfl))
      clear HFin HI
      go_wp2_with fail
      go_quiet (fail)
      have HQ := (show Hid _ from HF2.out (wr.drewN nq) (below_drewN (Below.refl _ _) nq))
      clear HF2
      go_wp2_with fail
      go_ret
      exact ⟨⟨_, _, rfl, HQ.out.1, HQ.out.2.2⟩, HQ.out.2.1⟩
    obtain ⟨j, rfl⟩ : ∃ j, k = j + 1 := ⟨k - 1, by omega⟩
    have hjL : j < L.length := by omega
    have hlj : (L.take (j + 1) ++ x :: L.drop (j + 1))[j]? = some (L[j]) := by
      rw [List.getElem?_append_left (by simp; omega), List.getElem?_take_of_lt (by omega), List.getElem?_eq_getElem hjL]
    have hlx : (L.take (j + 1) ++ x :: L.drop (j + 1))[j + 1]? = some x := by
      rw [List.getElem?_append_right (by rw [List.length_take]; omega), show (L.take (j + 1)).length = j + 1 by simp; omega, Nat.sub_self]
      rfl
    obtain ⟨g0, g1, g2, g3, gf⟩ := row_at HO.out hlj
    obtain ⟨h0, h1, h2, h3, _⟩ := row_at HO.out hlx
    have hkp : (0 : Int) < ((j + 1 : Nat) : Int) := by omega
    have hjw : IntKind.i64.wrap (((j + 1 : Nat) : Int) - 1) = (j : Int) := by rw [IntWalk.i64_in _ (by omega)]; omega
    have hj0 : (0 : Int) ≤ (j : Int) := by omega
    have hjM : (j : Int) < ((n + 1 : Nat) : Int) := by omega
    have hkM : ((j + 1 : Nat) : Int) < ((n + 1 : Nat) : Int) := by omega
    have hmj : (L.map UE.u)[j]? = some (L[j]).u := by rw [List.getElem?_map, List.getElem?_eq_getElem hjL]; rfl
    have HRow : Hid (L.take (j + 1) ++ L[j] :: L.drop (j + 1) = L.take j ++ L[j] :: L.drop j) := by
      show _ = _
      have e1 : L.take (j + 1) = L.take j ++ [L[j]] := by rw [List.take_add_one, List.getElem?_eq_getElem hjL]; rfl
      have e2 : L.drop j = L[j] :: L.drop (j + 1) := List.drop_eq_getElem_cons hjL
      rw [e1, e2, List.append_assoc]
      rfl
    have hgt : (!(Op.bytesLess (L[j]).u.id.toList id.toList || (L[j]).u.id.toList == id.toList)) = gtS (L[j]).u.id id := rfl
    by_cases hlt : gtS (L[j]).u.id id = true
    · rw [hlt] at hgt
      have HI2 : Hid (insK (L.map UE.u) id n = insK (L.map UE.u) id j) := by show _ = _; rw [HI.out, insK_down hmj hlt]
      have HNx : Hid (∀ W, Below wr.heap.size wr W → (((((W).setCell ⟨g, (j + 1) * 4, none⟩ (.string L[j].u.id)).setCell ⟨g, (j + 1) * 4 + 1, none⟩ (.int .i64 L[j].u.want)).setCell ⟨g, (j + 1) * 4 + 2, none⟩ (.slice L[j].a L[j].n L[j].c)).setCell ⟨g, (j + 1) * 4 + 3, none⟩ (.bool L[j].u.done)).ownsRow w0.heap.size 147 4 (.slice (some ⟨g, 0, none⟩) (n + 1) vc) (n + 1) (ueCells (L.take j ++ L[j] :: L.drop j)) ∧ (∀ e ∈ L, Owns (((((W).setCell ⟨g, (j + 1) * 4, none⟩ (.string L[j].u.id)).setCell ⟨g, (j + 1) * 4 + 1, none⟩ (.int .i64 L[j].u.want)).setCell ⟨g, (j + 1) * 4 + 2, none⟩ (.slice L[j].a L[j].n L[j].c)).setCell ⟨g, (j + 1) * 4 + 3, none⟩ (.bool L[j].u.done)) w0.heap.size e.a e.n e.c e.u.zs) ∧ Below w0.heap.size w0 (((((W).setCell ⟨g, (j + 1) * 4, none⟩ (.string L[j].u.id)).setCell ⟨g, (j + 1) * 4 + 1, none⟩ (.int .i64 L[j].u.want)).setCell ⟨g, (j + 1) * 4 + 2, none⟩ (.slice L[j].a L[j].n L[j].c)).setCell ⟨g, (j + 1) * 4 + 3, none⟩ (.bool L[j].u.done))) := fun W hb => by
        have hkl : (L.take (j + 1)).length = j + 1 := by simp; omega
        obtain ⟨r1, r2⟩ := row_put (L[j]) (own_below HO.out hb) hkl
        have hbW : Below w0.heap.size w0 W := HW.out.trans (hb.mono HW.out.size)
        refine ⟨by rw [← HRow.out]; exact r1, fun e he => ((HE.out e he).below hb).grown r2 (fun q hq hq2 => by injection hq with hq; exact HNe.out e he q hq2 hq.symm), hbW.grown r2 hbW.size (fun q hq => by injection hq with hq; omega)⟩
      clear HFin HI hmj hlj hlx HO HE HW hlt
      go_wp2_with fail
      go_quiet (fail)
      have HQ := (show Hid _ from HNx.out (wr.drewN nq) (below_drewN (Below.refl _ _) nq))
      clear HNx HRow
      go_wp2_with fail
      go_roundw
      case rel => exact ⟨j, L[j], by go_num, by omega, HQ.out.1, HI2, HQ.out.2.1, HQ.out.2.2⟩
      case measure => simp [intOf]
    · have hlf : gtS (L[j]).u.id id = false := by simpa using hlt
      rw [hlf] at hgt
      have HF2 := (show Hid _ from fun W hb => HFin.out W hb (by rw [HI.out, insK_stop hmj hlt]))
      clear HFin HI hmj hlj hlx HO HE HW hlt hlf HRow
      go_wp2_with fail
      go_quiet (fail)
      have HQ := (show Hid _ from HF2.out (wr.drewN nq) (below_drewN (Below.refl _ _) nq))
      clear HF2
      go_wp2_with fail
      go_ret
      exact ⟨⟨_, _, rfl, HQ.out.1, HQ.out.2.2⟩, HQ.out.2.1⟩

end Go.Proofs.YtemcjenpgdieoaaGreatDoor
