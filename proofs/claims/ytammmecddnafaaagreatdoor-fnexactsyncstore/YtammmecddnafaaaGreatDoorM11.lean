/- A list of bytes as what is appended. No program in it. Rows of bytes that grow: an append as a step of a region that draws, PutBig onto a row of the call's own, a row as a text. An append of whatever may be appended, and where its row lies: where it lay, or behind all. No program in it. Bytes appended onto a row of the call's own, which may be nil. No program in it but its table of types. What the program's fold makes of a record of data. What the program's fold makes of a record that ends an upload. What the program's fold makes of a record that drops an upload. What records make, said as the program goes; no program in it. Whether a Kind is one of a record's: what the program's own helper answers. -/
import Derived.Test.YtammmecddnafaaaGreatDoorM01
import Derived.Test.YtammmecddnafaaaGreatDoorM07
import Derived.Test.YtammmecddnafaaaGreatDoorM03
import Derived.Test.YtammmecddnafaaaGreatDoorM02
import Derived.Deep.RegionLaw
import Derived.Laws.IdiomStrings
import Derived.Deep.AppendSrc
import Derived.Test.YtammmecddnafaaaGreatDoorM10
import Derived.Test.YtammmecddnafaaaGreatDoorM10
import Derived.Test.YtammmecddnafaaaGreatDoorM08
namespace Go.Proofs.YtammmecddnafaaaGreatDoor
open Go.RowKit
set_option linter.unusedVariables false

theorem ownBlock_of (a : Option Addr) (n cap : Nat) : (Value.slice a n cap).ownBlock = a.map (·.block) := by cases a <;> rfl

theorem seg_nil {w : World} {a : Option Addr} {len : Nat} {zs : List Int} (hs : Seg w a len zs) : a = none → len = 0 := by
  intro h
  rcases hs.2.2 with h0 | ⟨b, off, e, _⟩
  · exact h0
  · rw [h] at e; cases e

theorem seg_src {w : World} {a : Option Addr} {len : Nat} {zs : List Int} (hs : Seg w a len zs) : ∀ ad, a = some ad → ∀ j u, (zs.map (Value.int .u8))[j]? = some u → w.cell? (ad.add j) = some u := by
  intro ad ha j u hj
  have hl2 : j < zs.length := by
    by_cases h : j < zs.length
    · exact h
    · rw [List.getElem?_eq_none (by simp; omega)] at hj; cases hj
  rcases hs.2.2 with h | ⟨b, off, h, _⟩
  · have := hs.1; omega
  · rw [ha] at h
    injection h with h
    subst h
    subst ha
    exact cells_ints hs j u hj

end Go.Proofs.YtammmecddnafaaaGreatDoor

namespace Go.Proofs.YtammmecddnafaaaGreatDoor
open Go.RowKit
set_option linter.unusedVariables false

theorem step_append_app {P : Program} {ops : Array Oper} {o : Oper} {a : Act} {w : World} {K : Act → World → Prop} {Q : Exit → Act → World → Prop} {E : Prop} (hgd : o.guard = none) (s x : Operand) (t tx : TypeId)
    (ho : o.op = .call { callee := .builtin .append, args := #[s, x], argTypes := #[t, tx] })
    (base : Nat) (e : TypeId) (i : TypeInfo) (z : Value) (size bytes : Nat) (ht : P.underlying t = some (.slice e)) (hi : P.info? e = some i) (hz : i.zero = some z)
    (hsize : i.size = size) (hby : i.bytes = bytes) (hzs : z.cells.size = size) (hsz : 0 < size)
    (g n cap : Nat) (xs : List Value) (hs : a.eval s = .slice (some ⟨g, 0, none⟩) n cap) (hown : w.ownsRow base e size (.slice (some ⟨g, 0, none⟩) n cap) n xs)
    (u : Value) (m : Nat) (news : List Value) (hx : a.eval x = u) (hsrc : Src P size tx u m news w)
    (h63 : n + m ≤ maxLen) (hbytes : (n + m) * bytes ≤ 140737488355328) (hbase : base ≤ w.heap.size) (M : Nat) (hM : n + m = M) (hM0 : 0 < M) (ys : List Value) (hys : xs ++ news = ys)
    (h : ∀ g' c' w', w'.ownsRow base e size (.slice (some ⟨g', 0, none⟩) M c') M ys → w.grownBy w' (some g) → K (a.put o.dst (.slice (some ⟨g', 0, none⟩) M c')) w') :
    if Region.wanted o (yielded ops a.tmps) = true then Oper.wp P o a w K Q else E := by
  have hw : Region.wanted o (yielded ops a.tmps) = true := by simp [Region.wanted, hgd]
  rw [if_pos hw]
  obtain ⟨v', w', hr, h2, h3⟩ := run_append_any (P := P) w base t tx o.type e i z size bytes ht hi hz hsize hby hzs hsz g n cap xs hown u m news hsrc h63 hbytes hbase
  unfold Oper.wp execOp
  simp only [ho, resolve, invoke, builtin, Sem.run_bind, Sem.run_pure, Result.andThen_ok, List.map_toArray, List.map_cons, List.map_nil, hs, hx, hr]
  rw [hM, hys] at h2
  rcases h2.2 with ⟨_, h0⟩ | ⟨g', c', cur, rfl, _⟩
  · omega
  · exact h g' c' w' h2 h3

theorem owns_low {w : World} {base lo n cap : Nat} {a : Option Addr} {zs : List Int} (h : Owns w base a n cap zs) (hl : lo ≤ base) : Owns w lo a n cap zs := ⟨own_low h.1 hl, h.2⟩

/-- Where a row of some bytes lies. -/
theorem owns_at {w : World} {base n cap : Nat} {a : Option Addr} {zs : List Int} (h : Owns w base a n cap zs) (hn : 0 < n) : ∃ g, a = some ⟨g, 0, none⟩ ∧ base ≤ g ∧ g < w.heap.size := by
  rcases h.1.2 with ⟨_, h0⟩ | ⟨g, cap', cur, he, hb, hg, _⟩
  · omega
  · injection he with e1 _ _
    exact ⟨g, e1, hb, (Array.getElem?_eq_some_iff.1 hg).1⟩

/-- A row of bytes as a text. -/
theorem conv_txt {W : World} {g M c : Nat} {zs : List Int} (h : Seg W (some ⟨g, 0, none⟩) M zs) : (convert 39 9 (.slice (some ⟨g, 0, none⟩) M c)).run Tryz.prog W = .ok (.string (txU zs)) W := by
  have hl : (zs.map fun z => UInt8.ofNat z.toNat).length = M := by rw [List.length_map, h.1]
  have hr := run_convert_bytes_back (P := Tryz.prog) W 39 9 5 ⟨g, 0, none⟩ c (zs.map fun z => UInt8.ofNat z.toNat) Tryz.underlying39 (by kernel_rfl) (by kernel_rfl) (by
    intro j hj
    have hjM : j < M := by omega
    have hp : (⟨g, 0, none⟩ : Addr).add j = ⟨g, j, none⟩ := by unfold Addr.add; split <;> simp_all
    rw [hp]
    rcases h.2.2 with h0 | ⟨b, off, e, _, hc⟩
    · omega
    · injection e with e
      injection e with e1 e2 _
      subst e1 e2
      have := hc j hjM
      rw [Nat.zero_add] at this
      rw [this]
      have hjz : j < zs.length := by rw [h.1]; exact hjM
      have hz := h.2.1 zs[j] (List.getElem_mem hjz)
      rw [List.getD_eq_getElem?_getD, List.getElem?_eq_getElem hjz]
      simp
      omega)
  rw [hl] at hr
  exact hr

/-- A part of bytes. -/
theorem Seg.part7 {w : World} {b len : Nat} {zs : List Int} (h : Seg w (some ⟨b, 0, none⟩) len zs) (T n : Nat) (hT : T + n ≤ len) : Seg w (some ⟨b, T, none⟩) n ((zs.drop T).take n) := by
  obtain ⟨h1, h2, h3⟩ := h
  refine ⟨by simp; omega, fun x hx => h2 x (List.mem_of_mem_drop (List.mem_of_mem_take hx)), ?_⟩
  by_cases hn : n = 0
  · exact .inl hn
  · rcases h3 with h0 | ⟨b', off, e, hb, hc⟩
    · omega
    · injection e with e
      injection e with e1 e2 _
      subst e1 e2
      refine .inr ⟨b, T, rfl, hb, fun i hi => ?_⟩
      have := hc (T + i) (by omega)
      rw [Nat.zero_add] at this
      rw [this]
      simp [List.getD_eq_getElem?_getD, List.getElem?_drop, hi]

/-- A part of bytes as a text. -/
theorem conv_txt_at {W : World} {g o M c : Nat} {zs : List Int} (h : Seg W (some ⟨g, o, none⟩) M zs) : (convert 39 9 (.slice (some ⟨g, o, none⟩) M c)).run Tryz.prog W = .ok (.string (txU zs)) W := by
  have hl : (zs.map fun z => UInt8.ofNat z.toNat).length = M := by rw [List.length_map, h.1]
  have hr := run_convert_bytes_back (P := Tryz.prog) W 39 9 5 ⟨g, o, none⟩ c (zs.map fun z => UInt8.ofNat z.toNat) Tryz.underlying39 (by kernel_rfl) (by kernel_rfl) (by
    intro j hj
    have hjM : j < M := by omega
    have hp : (⟨g, o, none⟩ : Addr).add j = ⟨g, o + j, none⟩ := by unfold Addr.add; split <;> simp_all
    rw [hp]
    rcases h.2.2 with h0 | ⟨b, off, e, _, hc⟩
    · omega
    · injection e with e
      injection e with e1 e2 _
      subst e1 e2
      rw [hc j hjM]
      have hjz : j < zs.length := by rw [h.1]; exact hjM
      have hz := h.2.1 zs[j] (List.getElem_mem hjz)
      rw [List.getD_eq_getElem?_getD, List.getElem?_eq_getElem hjz]
      simp
      omega)
  rw [hl] at hr
  exact hr

theorem Seg.src {W : World} {a : Option Addr} {d c : Nat} {zs : List Int} (hs : Seg W a d zs) : Src Tryz.prog 1 39 (.slice a d c) d (zs.map (Value.int .u8)) W := by
  cases a with
  | none =>
    have h0 : d = 0 := seg_nil hs rfl
    subst h0
    obtain rfl : zs = [] := List.eq_nil_of_length_eq_zero hs.1
    exact Src.ofNil _ Tryz.underlying39 c
  | some ad => exact Src.ofSlice _ Tryz.underlying39 ad d c _ (by rw [List.length_map, hs.1, Nat.mul_one]) (seg_src hs ad rfl) (ints_one zs)

theorem byteCells_txI (s : ByteArray) : byteCells s = (txI s).map (Value.int .u8) := by
  simp [byteCells, txI]

end Go.Proofs.YtammmecddnafaaaGreatDoor

namespace Go.Proofs.YtammmecddnafaaaGreatDoor
open Go.RowKit
set_option linter.unusedVariables false

theorem run_append_loc {P : Program} (w : World) (base : Nat) (t tx ty e : TypeId) (i : TypeInfo) (z : Value) (size bytes : Nat) (ht : P.underlying t = some (.slice e)) (hi : P.info? e = some i) (hz : i.zero = some z)
    (hsize : i.size = size) (hby : i.bytes = bytes) (hzs : z.cells.size = size) (hsz : 0 < size)
    (g n cap : Nat) (xs : List Value) (hown : w.ownsRow base e size (.slice (some ⟨g, 0, none⟩) n cap) n xs)
    (x : Value) (m : Nat) (news : List Value) (hs : Src P size tx x m news w)
    (h63 : n + m ≤ maxLen) (hbytes : (n + m) * bytes ≤ 140737488355328) (hbase : base ≤ w.heap.size) :
    ∃ g' c' w', (Builtin.append_ #[t, tx] ty #[.slice (some ⟨g, 0, none⟩) n cap, x]).run P w = .ok (.slice (some ⟨g', 0, none⟩) (n + m) c') w' ∧ w'.ownsRow base e size (.slice (some ⟨g', 0, none⟩) (n + m) c') (n + m) (xs ++ news) ∧ w.grownBy w' (some g) ∧ (g' = g ∨ g' = w.heap.size) := by
  subst hsize
  subst hby
  have hsmall : n + m ≤ 9223372036854775807 := by simp only [maxLen] at h63; omega
  have hl := hs.newsLen
  have hlen : (xs ++ news).length = (n + m) * i.size := by rw [List.length_append, hown.1, hl, Nat.add_mul]
  rcases hown.2 with ⟨h, _⟩ | ⟨g', cap', cur, heq, hbg, hg, hnc, hcm, hcs, htake⟩
  · cases h
  · injection heq with e1 e2 e3
    injection e1 with e1
    injection e1 with e1
    subst e1
    subst e3
    by_cases hroom : n + m ≤ cap
    · have hfit : n * i.size + news.length ≤ cur.size := by rw [hl, hcs, ← Nat.add_mul]; exact Nat.mul_le_mul_right _ hroom
      have hr := run_room_any w t tx ty e i ht hi g n cap cur hg x m news hs hroom hfit
      refine ⟨_, _, _, hr, ⟨hlen, .inr ⟨g, cap, _, rfl, hbg, setRow_heap w g cur _ e _ hg, hroom, hcm, ?_, ?_⟩⟩, ⟨rfl, rfl, rfl, by simp, fun k _ hk => setRow_other w g k _ (fun e => hk (by simp [e]))⟩, .inl rfl⟩
      · simp only [List.size_toArray, List.length_append, List.length_take, List.length_drop, Array.length_toList]
        omega
      · rw [htake, ← hlen]
        exact List.take_left
    · have holds : ∀ j u, xs[j]? = some u → w.cell? ((⟨g, 0, none⟩ : Addr).add j) = some u := hown.cells (g := g) rfl
      have hold := run_firstCells_some (P := P) w.drew i.size n ⟨g, 0, none⟩ n cap xs hown.1 (by simpa using holds)
      have hr := run_append_grow_src (P := P) w t tx ty e i z ht hi hz (some ⟨g, 0, none⟩) n cap xs hold x m news hs (by omega) (by omega) (growslice_fits (by omega) hbytes)
      have hge := grownCap_ge w (n + m) cap e
      have hcm' : grownCap w (n + m) cap e ≤ maxLen := grownCap_le_maxLen w (n + m) cap e h63
      refine ⟨_, _, _, hr, ⟨hlen, .inr ⟨w.heap.size, _, _, rfl, hbase, heap_alloc_new w.drew _, hge, hcm', ?_, ?_⟩⟩, ⟨rfl, rfl, rfl, by simp, fun k hk _ => heap_alloc_old w.drew _ hk⟩, .inr rfl⟩
      · simp only [Array.size_append, List.size_toArray, size_zeroCells, hzs, hlen, ← Nat.add_mul]
        congr 1
        omega
      · simp only [Array.toList_append]
        rw [← hlen]
        exact List.take_left

theorem wpList_append_loc {P : Program} {w : World} {ops : Array Oper} {rest : List Oper} {o : Oper} {a : Act} {Q : Exit → Act → World → Prop} (hgd : o.guard = none) (s x : Operand) (t tx : TypeId)
    (ho : o.op = .call { callee := .builtin .append, args := #[s, x], argTypes := #[t, tx] })
    (base : Nat) (e : TypeId) (i : TypeInfo) (z : Value) (size bytes : Nat) (ht : P.underlying t = some (.slice e)) (hi : P.info? e = some i) (hz : i.zero = some z)
    (hsize : i.size = size) (hby : i.bytes = bytes) (hzs : z.cells.size = size) (hsz : 0 < size)
    (g n cap : Nat) (xs : List Value) (hs : a.eval s = .slice (some ⟨g, 0, none⟩) n cap) (hown : w.ownsRow base e size (.slice (some ⟨g, 0, none⟩) n cap) n xs)
    (u : Value) (m : Nat) (news : List Value) (hx : a.eval x = u) (hsrc : Src P size tx u m news w)
    (h63 : n + m ≤ maxLen) (hbytes : (n + m) * bytes ≤ 140737488355328) (hbase : base ≤ w.heap.size)
    (h : ∀ g' c' w', w'.ownsRow base e size (.slice (some ⟨g', 0, none⟩) (n + m) c') (n + m) (xs ++ news) → w.grownBy w' (some g) → (g' = g ∨ g' = w.heap.size) → wpList P ops Q rest (a.put o.dst (.slice (some ⟨g', 0, none⟩) (n + m) c')) w') : wpList P ops Q (o :: rest) a w := by
  refine wpList_plain hgd fun K hK => ?_
  obtain ⟨g', c', w', hr, h2, h3, h4⟩ := run_append_loc (P := P) w base t tx o.type e i z size bytes ht hi hz hsize hby hzs hsz g n cap xs hown u m news hsrc h63 hbytes hbase
  unfold Oper.wp execOp
  simp only [ho, resolve, invoke, builtin, Sem.run_bind, Sem.run_pure, Result.andThen_ok, List.map_toArray, List.map_cons, List.map_nil, hs, hx, hr]
  exact hK _ _ (h g' c' w' h2 h3 h4)

theorem step_append_loc {P : Program} {ops : Array Oper} {o : Oper} {a : Act} {w : World} {K : Act → World → Prop} {Q : Exit → Act → World → Prop} {E : Prop} (hgd : o.guard = none) (s x : Operand) (t tx : TypeId)
    (ho : o.op = .call { callee := .builtin .append, args := #[s, x], argTypes := #[t, tx] })
    (base : Nat) (e : TypeId) (i : TypeInfo) (z : Value) (size bytes : Nat) (ht : P.underlying t = some (.slice e)) (hi : P.info? e = some i) (hz : i.zero = some z)
    (hsize : i.size = size) (hby : i.bytes = bytes) (hzs : z.cells.size = size) (hsz : 0 < size)
    (g n cap : Nat) (xs : List Value) (hs : a.eval s = .slice (some ⟨g, 0, none⟩) n cap) (hown : w.ownsRow base e size (.slice (some ⟨g, 0, none⟩) n cap) n xs)
    (u : Value) (m : Nat) (news : List Value) (hx : a.eval x = u) (hsrc : Src P size tx u m news w)
    (h63 : n + m ≤ maxLen) (hbytes : (n + m) * bytes ≤ 140737488355328) (hbase : base ≤ w.heap.size)
    (h : ∀ g' c' w', w'.ownsRow base e size (.slice (some ⟨g', 0, none⟩) (n + m) c') (n + m) (xs ++ news) → w.grownBy w' (some g) → (g' = g ∨ g' = w.heap.size) → K (a.put o.dst (.slice (some ⟨g', 0, none⟩) (n + m) c')) w') :
    if Region.wanted o (yielded ops a.tmps) = true then Oper.wp P o a w K Q else E := by
  have hw : Region.wanted o (yielded ops a.tmps) = true := by simp [Region.wanted, hgd]
  rw [if_pos hw]
  obtain ⟨g', c', w', hr, h2, h3, h4⟩ := run_append_loc (P := P) w base t tx o.type e i z size bytes ht hi hz hsize hby hzs hsz g n cap xs hown u m news hsrc h63 hbytes hbase
  unfold Oper.wp execOp
  simp only [ho, resolve, invoke, builtin, Sem.run_bind, Sem.run_pure, Result.andThen_ok, List.map_toArray, List.map_cons, List.map_nil, hs, hx, hr]
  exact h g' c' w' h2 h3 h4

end Go.Proofs.YtammmecddnafaaaGreatDoor

namespace Go.Proofs.YtammmecddnafaaaGreatDoor
open Go.RowKit
set_option linter.unusedVariables false

/-- An append, and where its row lies. -/
theorem appB_run (w : World) (base : Nat) (ty : TypeId) (a : Option Addr) (n c : Nat) (zs : List Int) (hown : Owns w base a n c zs) (x : Value) (m : Nat) (ys : List Int) (hs : Src Tryz.prog 1 39 x m (ys.map (Value.int .u8)) w) (hy : ∀ y ∈ ys, 0 ≤ y ∧ y ≤ 255) (h63 : n + m ≤ 17592186044416) (hbase : base ≤ w.heap.size) :
    ∃ A C w', (Builtin.append_ #[39, 39] ty #[.slice a n c, x]).run Tryz.prog w = .ok (.slice A (n + m) C) w' ∧ Owns w' base A (n + m) C (zs ++ ys) ∧ w.grownBy w' (a.map (·.block)) ∧ (A.map (·.block) = a.map (·.block) ∨ ∀ q, A.map (·.block) = some q → w.heap.size ≤ q) := by
  obtain ⟨j0, ji, jz0, jz1, jz2⟩ := info_parts Tryz.info5
  have hr : ∀ x ∈ zs ++ ys, 0 ≤ x ∧ x ≤ 255 := fun x hx => by
    rcases List.mem_append.1 hx with h | h
    · exact hown.2 x h
    · exact hy x h
  have hl2 := hs.newsLen
  rcases hown.1.2 with ⟨h0, hn0⟩ | ⟨g, cap', cur, he, hb, hg, hn, hmx, hc, htk⟩
  · injection h0 with e1 e2 e3
    subst e1 e2 e3
    obtain rfl : zs = [] := by have := hown.1.1; simpa using this
    by_cases hm : m = 0
    · subst hm
      obtain rfl : ys = [] := by simpa using hl2
      refine ⟨none, 0, w, ?_, ⟨⟨rfl, .inl ⟨rfl, rfl⟩⟩, by simp⟩, ⟨rfl, rfl, rfl, Nat.le_refl _, fun _ _ _ => rfl⟩, .inl rfl⟩
      have hs' : Src Tryz.prog j0.size 39 x 0 [] w := by rw [jz1]; exact hs
      simp [Builtin.append_, run_underlying Tryz.underlying39, sizeOf, typeInfo, ji, hs'.len, hs'.cells]
    · have hs' : Src Tryz.prog j0.size 39 x m (ys.map (Value.int .u8)) w := by rw [jz1]; exact hs
      have hrr := run_append_grow_src (P := Tryz.prog) w 39 39 ty 5 j0 _ Tryz.underlying39 ji jz0 none 0 0 [] (run_firstCells_none w.drew j0.size 0 0 0) x m (ys.map (Value.int .u8)) hs' (by omega) (by omega) (growslice_fits (by omega) (by rw [jz2]; omega))
      have hge := grownCap_ge w (0 + m) 0 5
      have hcm' : grownCap w (0 + m) 0 5 ≤ maxLen := grownCap_le_maxLen w (0 + m) 0 _ (by unfold maxLen; omega)
      refine ⟨_, _, _, hrr, ⟨⟨by rw [List.nil_append, hl2]; omega, .inr ⟨w.heap.size, _, _, rfl, hbase, heap_alloc_new w.drew _, hge, hcm', ?_, ?_⟩⟩, hr⟩, ⟨rfl, rfl, rfl, by simp, fun k hk _ => heap_alloc_old w.drew _ hk⟩, .inr (fun q hq => by injection hq with hq; exact Nat.le_of_eq hq)⟩
      · simp only [Array.size_append, List.size_toArray, List.nil_append, size_zeroCells, hl2]
        show m * 1 + (_ - _) * 1 = _
        omega
      · simp only [Array.toList_append, List.nil_append]
        have : (0 + m) * 1 = (ys.map (Value.int .u8)).length := by rw [hl2]; omega
        rw [this]
        exact List.take_left
  · injection he with e1 e2 e3
    subst e1 e3
    obtain ⟨g', c', w', hrr, ho', hg', hw⟩ := run_append_loc (P := Tryz.prog) w base 39 39 ty 5 j0 _ 1 1 Tryz.underlying39 ji jz0 jz1 jz2 rfl (by decide) g n c (zs.map (Value.int .u8)) hown.1 x m (ys.map (Value.int .u8)) hs (by unfold maxLen; omega) (by omega) hbase
    refine ⟨some ⟨g', 0, none⟩, c', w', hrr, ⟨by rw [List.map_append]; exact ho', hr⟩, hg', ?_⟩
    rcases hw with rfl | rfl
    · exact .inl rfl
    · exact .inr (fun q hq => by injection hq with hq; exact Nat.le_of_eq hq)

end Go.Proofs.YtammmecddnafaaaGreatDoor

namespace Go.Proofs.YtammmecddnafaaaGreatDoor
open Go.RowKit
set_option linter.unusedVariables false

theorem map_put {l : List UE} {k : Nat} (hk : k < l.length) (x : UE) : (l.take k ++ x :: l.drop (k + 1)).map UE.u = (l.map UE.u).set k x.u := by
  have e : l = l.take k ++ l[k] :: l.drop (k + 1) := by rw [← List.drop_eq_getElem_cons hk, List.take_append_drop]
  have hl : ((l.take k).map UE.u).length = k := by rw [List.length_map, List.length_take]; omega
  conv => rhs; rw [e]
  rw [List.map_append, List.map_append, List.map_cons, List.map_cons]
  rw [List.set_append_right _ _ (by omega), hl, Nat.sub_self, List.set_cons_zero]

/-- What a record of data makes, said as the program goes. -/
def growO (l : List U) (id : ByteArray) (rn : Int) (ys : List Int) : Option (List U) := match atU l id with
  | none => none
  | some k => match l[k]? with
    | none => none
    | some u => if fitB u rn ys.length then some (l.set k { u with zs := u.zs ++ ys }) else none

theorem growO_at {l : List U} {id : ByteArray} {rn : Int} {ys : List Int} {k : Nat} {u : U} (h : atU l id = some k) (hu : l[k]? = some u) : growO l id rn ys = if fitB u rn ys.length then some (l.set k { u with zs := u.zs ++ ys }) else none := by
  simp only [growO, h, hu]

set_option maxRecDepth 10000 in
set_option maxHeartbeats 1600000 in
theorem implGrow_any (fb base : Nat) (a : Option Addr) (n c : Nat) (l : List UE) (e q k : Int) (id : ByteArray) (rn : Int) (ra : Option Addr) (d ca : Nat) (w : World) (hf : BoxN w fb 117 [.slice a n c]) (h : UpRow w base (.slice a n c) l) (hn : n = l.length) (hl : n ≤ 1099511627776) (he : ErrN w) (hbase : base ≤ w.heap.size) (hfb : base ≤ fb) (ys : List Int) (hs : Seg w ra d ys) (hd : d ≤ 1099511627776) (hfit : ∀ x ∈ l, UFit x.u) (hzl : ∀ x ∈ l, x.n ≤ 1099511627776) :
    Calls Tryz.prog 108 #[.pointer (some ⟨fb, 0, none⟩), .agg #[.int .i64 e, .int .i64 q, .int .i64 k, .string id, .int .i64 rn, .slice ra d ca]] w fun e w' => FoldAns w base fb (growO (l.map UE.u) id rn ys) e w' := by
  obtain ⟨w0, hw0⟩ : ∃ w0, w.alloc (.cells #[.int .i64 e, .int .i64 q, .int .i64 k, .string id, .int .i64 rn, .slice ra d ca] 59) = w0 := ⟨_, rfl⟩
  have HE : Hid (w.alloc (.cells #[.int .i64 e, .int .i64 q, .int .i64 k, .string id, .int .i64 rn, .slice ra d ca] 59) = w0) := hw0
  have HQ : Hid (BoxN w0 w.heap.size 59 [.int .i64 e, .int .i64 q, .int .i64 k, .string id, .int .i64 rn, .slice ra d ca]) := by show BoxN _ _ _ _; rw [← hw0]; exact BoxN.new _ _ _
  have HB : Hid (Below w.heap.size w w0) := by show Below _ _ _; rw [← hw0]; exact (Below.refl _ _).alloc (Nat.le_refl _) _
  have HX : Hid (∀ W, Below w0.heap.size w0 W → BoxN W fb 117 [.slice a n c] ∧ UpRow W base (.slice a n c) l ∧ ErrN W ∧ Below w.heap.size w W ∧ BoxN W w.heap.size 59 [.int .i64 e, .int .i64 q, .int .i64 k, .string id, .int .i64 rn, .slice ra d ca]) := fun W hb => ⟨(hf.stays HB.out).stays hb, (h.stays HB.out).stays hb, (he.below HB.out).below hb, HB.out.trans (hb.mono HB.out.size), HQ.out.stays hb⟩
  have HN : Hid (n = l.length) := hn
  have HSg : Hid (∀ W, Below w0.heap.size w0 W → Seg W ra d ys) := fun W hb => (hs.below HB.out).below hb
  have r3 := (HX.out w0 (Below.refl _ _)).2.2.2.2.cell 3 rfl
  have HT : Hid (Calls Tryz.prog 116 #[.pointer (some ⟨fb, 0, none⟩), .string id] w0 fun e w' => ThereAns (atU (l.map UE.u) id) a e ∧ Below w0.heap.size w0 w') := implThere_any fb a n c base id l w0 (HX.out w0 (Below.refl _ _)).1 (HX.out w0 (Below.refl _ _)).2.1 HN.out hl (HX.out w0 (Below.refl _ _)).2.2.1
  clear hw0 hf h hn he HQ HB hs
  go_enter Tryz.func108, Tryz.ntmps108
  go_upto_region 1 with fail
  rw [HE.out]
  clear HE
  go_wp2_with fail
  refine HT.out.mono ?_
  rintro ee w1 ⟨hth, hb1⟩
  have HB1 : Hid (Below w0.heap.size w0 w1) := hb1
  clear hb1 HT r3
  rcases hth with ⟨kk, g, hk, rfl, rfl⟩ | ⟨hk, t, v, rfl⟩
  case inr =>
    have HF : Hid (growO (l.map UE.u) id rn ys = none) := by show _ = _; rw [growO, hk]
    clear hk
    go_wp2_with fail
    exact ⟨rfl, .inl ⟨HF.out, t, v, rfl⟩, (HX.out _ HB1.out).2.2.2.1.mono hbase⟩
  have hkl : kk < l.length := by simpa using (atU_is hk).1
  obtain ⟨_, hg', c0, c1, c2, c3, hfz⟩ := (HX.out _ HB1.out).2.1.at HN.out hkl
  injection hg' with hg'
  injection hg' with hg'
  subst hg'
  have HFi : Hid (UFit (l[kk]).u) := hfit _ (List.getElem_mem hkl)
  have HZk : Hid ((l[kk]).n ≤ 1099511627776) := hzl _ (List.getElem_mem hkl)
  have HOd : Hid (∀ W, Below w0.heap.size w0 W → Owns W base (l[kk]).a (l[kk]).n (l[kk]).c (l[kk]).u.zs) := fun W hb => (HX.out W hb).2.1.2.1 _ (List.getElem_mem hkl)
  have HG : Hid (growO (l.map UE.u) id rn ys = if fitB (l[kk]).u rn ys.length then some ((l.map UE.u).set kk { (l[kk]).u with zs := (l[kk]).u.zs ++ ys }) else none) := growO_at hk (by rw [List.getElem?_map, List.getElem?_eq_getElem hkl]; rfl)
  have HDl : Hid (ys.length = d) := (HSg.out _ HB1.out).1
  have r4 := (HX.out _ HB1.out).2.2.2.2.cell 4 rfl
  have r5 := (HX.out _ HB1.out).2.2.2.2.cell 5 rfl
  have HCf : Hid (Calls Tryz.prog 79 #[.pointer (some ⟨g, kk * 4, none⟩), .int .i64 rn, .slice ra d ca] w1 fun e w' => e = .returned (.bool (fitB (l[kk]).u rn d)) ∧ w' = w1) := implFits_any g (kk * 4) (l[kk]).u (l[kk]).a (l[kk]).n (l[kk]).c rn ra d ca w1 c1 c2 c3 (HOd.out _ HB1.out).seg.1 HFi.out HZk.out hd
  clear hk hfit hzl c0 c1 c2 c3 hfz
  go_wp2_with fail
  refine HCf.out.mono ?_
  rintro _ w1 ⟨rfl, rfl⟩
  clear HCf
  cases hfi : fitB (l[kk]).u rn d with
  | false =>
    have HF : Hid (growO (l.map UE.u) id rn ys = none) := by show _ = _; rw [HG.out, HDl.out, hfi]; rfl
    clear hfi HG
    go_wp2_with fail
    refine (mustFit_no _ (HX.out _ HB1.out).2.2.1).mono ?_
    rintro _ x2 ⟨⟨t, v, rfl⟩, rfl⟩
    go_wp2_with fail
    exact ⟨rfl, .inl ⟨HF.out, t, v, rfl⟩, (HX.out _ HB1.out).2.2.2.1.mono hbase⟩
  | true =>
    have HF : Hid (growO (l.map UE.u) id rn ys = some ((l.map UE.u).set kk { (l[kk]).u with zs := (l[kk]).u.zs ++ ys })) := by show _ = _; rw [HG.out, HDl.out, hfi]; rfl
    clear hfi HG
    go_wp2_with fail
    refine (mustFit_yes _).mono ?_
    rintro _ w1 ⟨rfl, rfl⟩
    clear r4 r5
    go_upto_region 3 with fail
    have y2 : ∀ P : Past w1, P.world.cell? ⟨g, kk * 4 + 2, none⟩ = some (.slice (l[kk]).a (l[kk]).n (l[kk]).c) := fun P => by
      obtain ⟨_, hg', _, _, c2, _, _⟩ := (HX.out _ (HB1.out.trans (P.below.mono HB1.out.size))).2.1.at HN.out hkl
      injection hg' with hg'
      injection hg' with hg'
      subst hg'
      exact c2
    have y5 : ∀ P : Past w1, P.world.cell? ⟨w.heap.size, 5, none⟩ = some (.slice ra d ca) := fun P => (HX.out _ (HB1.out.trans (P.below.mono HB1.out.size))).2.2.2.2.cell 5 rfl
    have hne := past_some w1
    refine wp_region_past_tail1 7 (by kernel_rfl) (by kernel_rfl) (by kernel_rfl) (by kernel_rfl) rfl rfl _ rfl (fun ops HO => ?_)
    simp only [List.take_succ_cons, List.take_zero, List.drop_succ_cons, List.drop_zero]
    iterate 6 (quiet_step ((first | fail)))
    refine wpQuiet_nil ?_
    rintro _ ⟨z, rfl⟩
    have HB2 : Hid (Below w0.heap.size w0 z.world) := HB1.out.trans (z.below.mono HB1.out.size)
    obtain ⟨W2, hW2⟩ : ∃ W2, z.world = W2 := ⟨_, rfl⟩
    rw [hW2] at HB2 ⊢
    clear hW2 z y2 y5 hne
    have hx := HX.out _ HB2.out
    obtain ⟨A, C, w3, hr, ho3, hg3, hw3⟩ := appB_run W2 base 39 (l[kk]).a (l[kk]).n (l[kk]).c (l[kk]).u.zs (HOd.out _ HB2.out) (.slice ra d ca) d ys ((HSg.out _ HB2.out).src) (HSg.out _ HB2.out).2.1 (by have := HZk.out; omega) (Nat.le_trans hbase hx.2.2.2.1.size)
    have hrow := hx.2.1
    have hsp : l = l.take kk ++ l[kk] :: l.drop (kk + 1) := by rw [← List.drop_eq_getElem_cons hkl, List.take_append_drop]
    have htl : (l.take kk).length = kk := by rw [List.length_take]; omega
    have hrow2 : UpRow W2 base (.slice (some ⟨g, 0, none⟩) n c) (l.take kk ++ l[kk] :: l.drop (kk + 1)) := by rw [← hsp]; exact hrow
    have hgw : g < W2.heap.size := (hrow.lts.1 g rfl).2
    have hga : (l[kk]).a.map (·.block) ≠ some g := hrow.rowApart (HOd.out _ HB2.out) g rfl
    obtain ⟨_, hg', _, _, c2, _, hfz⟩ := hrow.at HN.out hkl
    injection hg' with hg'
    injection hg' with hg'
    subst hg'
    have s2 : w3.cell? ⟨g, kk * 4 + 2, none⟩ = some (.slice (l[kk]).a (l[kk]).n (l[kk]).c) := by rw [grown_cell hg3 hgw (fun h => hga h.symm)]; exact c2
    have sf : w3.frozen? ⟨g, kk * 4 + 2, none⟩ = false := by rw [grown_frozen hg3 hgw (fun h => hga h.symm)]; exact hfz _
    have hU3 := hrow2.grew (by rw [← hsp]; exact HN.out.symm) ho3 hg3 hw3
    rw [htl] at hU3
    have hF3 : BoxN w3 fb 117 [.slice (some ⟨g, 0, none⟩) n c] := hx.1.grown hg3 (fun e => hx.1.noRow (HOd.out _ HB2.out).1 (by decide) (by rw [ownBlock_sU]; exact e))
    have hfg : fb ≠ g := fun e => hx.1.noRow hrow.1 (by decide) (by rw [e]; rfl)
    have HR : Hid (FoldAns w base fb (growO (l.map UE.u) id rn ys) (.returned (.tuple #[])) (w3.setCell ⟨g, kk * 4 + 2, none⟩ (.slice A ((l[kk]).n + d) C))) := by
      refine ⟨.inr ⟨_, n, c, _, rfl, ?_, ?_, hF3.other hfg _, hU3⟩, ?_⟩
      · rw [HF.out, map_put hkl]
      · rw [HN.out, List.length_append, List.length_cons, htl, List.length_drop]; omega
      · have h1 : Below base w W2 := hx.2.2.2.1.mono hbase
        have h2 := h1.grown hg3 (Nat.le_trans hbase hx.2.2.2.1.size) (fun q hq => ((HOd.out _ HB2.out).lt q hq).1)
        exact h2.setCell (by dsimp only; exact (hrow.lts.1 g rfl).1) _
    clear hx ho3 hg3 hw3 hrow hsp htl hrow2 hU3 hF3 c2 hfz HF
    go_wp2_with (at_builtin; refine Lib.wpList_append_run _ rfl _ _ _ _ rfl _ _ rfl rfl _ _ hr ?_)
    go_end0
    exact HR.out

end Go.Proofs.YtammmecddnafaaaGreatDoor

namespace Go.Proofs.YtammmecddnafaaaGreatDoor
open Go.RowKit
set_option linter.unusedVariables false

/-- What a record that ends an upload makes, said as the program goes. -/
def doneO (l : List U) (id : ByteArray) : Option (List U) := match atU l id with
  | none => none
  | some k => match l[k]? with
    | none => none
    | some u => if u.done = false ∧ (u.zs.length : Int) = u.want then some (l.set k { u with done := true }) else none

theorem doneO_at {l : List U} {id : ByteArray} {k : Nat} {u : U} (h : atU l id = some k) (hu : l[k]? = some u) : doneO l id = if u.done = false ∧ (u.zs.length : Int) = u.want then some (l.set k { u with done := true }) else none := by
  simp only [doneO, h, hu]

set_option maxRecDepth 10000 in
set_option maxHeartbeats 1600000 in
theorem implFinish_any (fb base : Nat) (a : Option Addr) (n c : Nat) (l : List UE) (e q k : Int) (id : ByteArray) (rn : Int) (ra : Option Addr) (d ca : Nat) (w : World) (hf : BoxN w fb 117 [.slice a n c]) (h : UpRow w base (.slice a n c) l) (hn : n = l.length) (hl : n ≤ 1099511627776) (he : ErrN w) (hbase : base ≤ w.heap.size) (hfb : base ≤ fb) (hzl : ∀ x ∈ l, x.n ≤ 1099511627776) :
    Calls Tryz.prog 109 #[.pointer (some ⟨fb, 0, none⟩), .agg #[.int .i64 e, .int .i64 q, .int .i64 k, .string id, .int .i64 rn, .slice ra d ca]] w fun e w' => FoldAns w base fb (doneO (l.map UE.u) id) e w' := by
  obtain ⟨w0, hw0⟩ : ∃ w0, w.alloc (.cells #[.int .i64 e, .int .i64 q, .int .i64 k, .string id, .int .i64 rn, .slice ra d ca] 59) = w0 := ⟨_, rfl⟩
  have HE : Hid (w.alloc (.cells #[.int .i64 e, .int .i64 q, .int .i64 k, .string id, .int .i64 rn, .slice ra d ca] 59) = w0) := hw0
  have HQ : Hid (BoxN w0 w.heap.size 59 [.int .i64 e, .int .i64 q, .int .i64 k, .string id, .int .i64 rn, .slice ra d ca]) := by show BoxN _ _ _ _; rw [← hw0]; exact BoxN.new _ _ _
  have HB : Hid (Below w.heap.size w w0) := by show Below _ _ _; rw [← hw0]; exact (Below.refl _ _).alloc (Nat.le_refl _) _
  have HX : Hid (∀ W, Below w0.heap.size w0 W → BoxN W fb 117 [.slice a n c] ∧ UpRow W base (.slice a n c) l ∧ ErrN W ∧ Below w.heap.size w W ∧ BoxN W w.heap.size 59 [.int .i64 e, .int .i64 q, .int .i64 k, .string id, .int .i64 rn, .slice ra d ca]) := fun W hb => ⟨(hf.stays HB.out).stays hb, (h.stays HB.out).stays hb, (he.below HB.out).below hb, HB.out.trans (hb.mono HB.out.size), HQ.out.stays hb⟩
  have HN : Hid (n = l.length) := hn
  have r3 := (HX.out w0 (Below.refl _ _)).2.2.2.2.cell 3 rfl
  have HT : Hid (Calls Tryz.prog 116 #[.pointer (some ⟨fb, 0, none⟩), .string id] w0 fun e w' => ThereAns (atU (l.map UE.u) id) a e ∧ Below w0.heap.size w0 w') := implThere_any fb a n c base id l w0 (HX.out w0 (Below.refl _ _)).1 (HX.out w0 (Below.refl _ _)).2.1 HN.out hl (HX.out w0 (Below.refl _ _)).2.2.1
  clear hw0 hf h hn he HQ HB
  go_enter Tryz.func109, Tryz.ntmps109
  go_upto_region 1 with fail
  rw [HE.out]
  clear HE
  go_wp2_with fail
  refine HT.out.mono ?_
  rintro ee w1 ⟨hth, hb1⟩
  have HB1 : Hid (Below w0.heap.size w0 w1) := hb1
  clear hb1 HT r3
  rcases hth with ⟨kk, g, hk, rfl, rfl⟩ | ⟨hk, t, v, rfl⟩
  case inr =>
    have HF : Hid (doneO (l.map UE.u) id = none) := by show _ = _; rw [doneO, hk]
    clear hk
    go_wp2_with fail
    exact ⟨rfl, .inl ⟨HF.out, t, v, rfl⟩, (HX.out _ HB1.out).2.2.2.1.mono hbase⟩
  have hkl : kk < l.length := by simpa using (atU_is hk).1
  have HZk : Hid ((l[kk]).n ≤ 1099511627776) := hzl _ (List.getElem_mem hkl)
  have HG : Hid (doneO (l.map UE.u) id = if (l[kk]).u.done = false ∧ ((l[kk]).u.zs.length : Int) = (l[kk]).u.want then some ((l.map UE.u).set kk { (l[kk]).u with done := true }) else none) := doneO_at hk (by rw [List.getElem?_map, List.getElem?_eq_getElem hkl]; rfl)
  have HZn : Hid ((l[kk]).u.zs.length = (l[kk]).n) := ((HX.out _ HB1.out).2.1.2.1 _ (List.getElem_mem hkl)).seg.1
  have HC : Hid (∀ P : Past w1, P.world.cell? ⟨g, kk * 4 + 1, none⟩ = some (.int .i64 (l[kk]).u.want) ∧ P.world.cell? ⟨g, kk * 4 + 2, none⟩ = some (.slice (l[kk]).a (l[kk]).n (l[kk]).c) ∧ P.world.cell? ⟨g, kk * 4 + 3, none⟩ = some (.bool (l[kk]).u.done)) := fun P => by
    obtain ⟨_, hg', _, c1, c2, c3, _⟩ := (HX.out _ (HB1.out.trans (P.below.mono HB1.out.size))).2.1.at HN.out hkl
    injection hg' with hg'
    injection hg' with hg'
    subst hg'
    exact ⟨c1, c2, c3⟩
  have y1 : ∀ P : Past w1, P.world.cell? ⟨g, kk * 4 + 1, none⟩ = some (.int .i64 (l[kk]).u.want) := fun P => (HC.out P).1
  have y2 : ∀ P : Past w1, P.world.cell? ⟨g, kk * 4 + 2, none⟩ = some (.slice (l[kk]).a (l[kk]).n (l[kk]).c) := fun P => (HC.out P).2.1
  have y3 : ∀ P : Past w1, P.world.cell? ⟨g, kk * 4 + 3, none⟩ = some (.bool (l[kk]).u.done) := fun P => (HC.out P).2.2
  have hne := past_some w1
  have HMf : Hid (∀ P : Past w1, Calls Tryz.prog 111 #[.bool true] P.world fun e w' => e = .returned (.tuple #[]) ∧ Below P.world.heap.size P.world w') := fun P => (mustFit_yes _).mono (fun e w' h => ⟨h.1, by rw [h.2]; exact Below.refl _ _⟩)
  clear hk hzl
  go_upto_region 2 with fail
  cases hdn : (l[kk]).u.done with
  | true =>
    have HF : Hid (doneO (l.map UE.u) id = none) := by show _ = _; rw [HG.out, if_neg (by rw [hdn]; simp)]
    rw [hdn] at y3
    clear hdn HG HC
    refine wp_region_past_tail 17 (by kernel_rfl) (by kernel_rfl) (fun ops HO => ?_)
    simp only [List.take_succ_cons, List.take_zero, List.drop_succ_cons, List.drop_zero]
    iterate 6 (quiet_step ((first | (go_at_call 111; with_reducible exact calls_past (HMf.out _)) | fail)))
    iterate 10 (refine quiet_past (by rw [HO.out]; kernel_rfl) ?_)
    iterate 1 (quiet_step ((first | (go_at_call 111; with_reducible exact calls_past (HMf.out _)) | fail)))
    refine wpQuiet_nil ?_
    rintro _ ⟨z, rfl⟩
    have HB2 : Hid (Below w0.heap.size w0 z.world) := HB1.out.trans (z.below.mono HB1.out.size)
    go_wp2_with fail
    refine (mustFit_no _ (HX.out _ HB2.out).2.2.1).mono ?_
    rintro _ x2 ⟨⟨t, v, rfl⟩, rfl⟩
    go_wp2_with fail
    exact ⟨rfl, .inl ⟨HF.out, t, v, rfl⟩, (HX.out _ HB2.out).2.2.2.1.mono hbase⟩
  | false =>
    rw [hdn] at y3
    by_cases hw : ((l[kk]).n : Int) = (l[kk]).u.want
    case neg =>
      have HF : Hid (doneO (l.map UE.u) id = none) := by show _ = _; rw [HG.out, if_neg (fun h => hw (by rw [← HZn.out]; exact h.2))]
      have e1 : (((l[kk]).n : Int) == (l[kk]).u.want) = false := by simpa using hw
      clear hdn HG HC hw
      refine wp_region_past_tail 17 (by kernel_rfl) (by kernel_rfl) (fun ops HO => ?_)
      simp only [List.take_succ_cons, List.take_zero, List.drop_succ_cons, List.drop_zero]
      iterate 6 (quiet_step ((first | (go_at_call 111; with_reducible exact calls_past (HMf.out _)) | fail)))
      iterate 10 (refine quiet_do (by rw [HO.out]; kernel_rfl) (fun K hK => ?_); go_simp; (refine hK _ ?_; clear hK K))
      iterate 1 (quiet_step ((first | (go_at_call 111; with_reducible exact calls_past (HMf.out _)) | fail)))
      refine wpQuiet_nil ?_
      rintro _ ⟨z, rfl⟩
      have HB2 : Hid (Below w0.heap.size w0 z.world) := HB1.out.trans (z.below.mono HB1.out.size)
      go_wp2_with fail
      refine (mustFit_no _ (HX.out _ HB2.out).2.2.1).mono ?_
      rintro _ x2 ⟨⟨t, v, rfl⟩, rfl⟩
      go_wp2_with fail
      exact ⟨rfl, .inl ⟨HF.out, t, v, rfl⟩, (HX.out _ HB2.out).2.2.2.1.mono hbase⟩
    have HF : Hid (doneO (l.map UE.u) id = some ((l.map UE.u).set kk { (l[kk]).u with done := true })) := by show _ = _; rw [HG.out, if_pos ⟨hdn, by rw [HZn.out]; exact hw⟩]
    have e1 : (((l[kk]).n : Int) == (l[kk]).u.want) = true := by simpa using hw
    clear hdn HG HC hw
    refine wp_region_pastO (by kernel_rfl) (by kernel_rfl) fun ops HO => ?_
    iterate 6 (quiet_step ((first | (go_at_call 111; with_reducible exact calls_past (HMf.out _)) | fail)))
    iterate 10 (refine quiet_do (by rw [HO.out]; kernel_rfl) (fun K hK => ?_); go_simp; (refine hK _ ?_; clear hK K))
    iterate 2 (quiet_step ((first | (go_at_call 111; with_reducible exact calls_past (HMf.out _)) | fail)))
    refine wpQuiet_nil ?_
    rintro _ ⟨z, rfl⟩
    have HB2 : Hid (Below w0.heap.size w0 z.world) := HB1.out.trans (z.below.mono HB1.out.size)
    obtain ⟨W2, hW2⟩ : ∃ W2, z.world = W2 := ⟨_, rfl⟩
    rw [hW2] at HB2 ⊢
    clear hW2 z y1 y2 y3 hne
    have hx := HX.out _ HB2.out
    have hrow := hx.2.1
    have hsp : l = l.take kk ++ l[kk] :: l.drop (kk + 1) := by rw [← List.drop_eq_getElem_cons hkl, List.take_append_drop]
    have htl : (l.take kk).length = kk := by rw [List.length_take]; omega
    have hrow2 : UpRow W2 base (.slice (some ⟨g, 0, none⟩) n c) (l.take kk ++ l[kk] :: l.drop (kk + 1)) := by rw [← hsp]; exact hrow
    obtain ⟨_, hg', _, _, _, c3, hfz⟩ := hrow.at HN.out hkl
    injection hg' with hg'
    injection hg' with hg'
    subst hg'
    have sf := hfz (kk * 4 + 3)
    have hU3 := hrow2.doned (by rw [← hsp]; exact HN.out.symm) true
    rw [htl] at hU3
    have hfg : fb ≠ g := fun e => hx.1.noRow hrow.1 (by decide) (by rw [e]; rfl)
    have HR : Hid (FoldAns w base fb (doneO (l.map UE.u) id) (.returned (.tuple #[])) (W2.setCell ⟨g, kk * 4 + 3, none⟩ (.bool true))) := by
      refine ⟨.inr ⟨_, n, c, _, rfl, ?_, ?_, hx.1.other hfg _, hU3.1⟩, ?_⟩
      · rw [HF.out, map_put hkl]
      · rw [HN.out, List.length_append, List.length_cons, htl, List.length_drop]; omega
      · exact (hx.2.2.2.1.mono hbase).setCell (by dsimp only; exact (hrow.lts.1 g rfl).1) _
    clear hx hrow hsp htl hrow2 hU3 hfz HF
    go_wp2_with fail
    go_end0
    exact HR.out

end Go.Proofs.YtammmecddnafaaaGreatDoor

namespace Go.Proofs.YtammmecddnafaaaGreatDoor
open Go.RowKit
set_option linter.unusedVariables false

/-- What a record that drops an upload makes, said as the program goes. -/
def dropO (l : List U) (id : ByteArray) : Option (List U) := match atU l id with
  | none => none
  | some _ => some (keptU l id)

set_option maxRecDepth 10000 in
set_option maxHeartbeats 1600000 in
theorem implDrop_any (fb base : Nat) (a : Option Addr) (n c : Nat) (l : List UE) (e q k : Int) (id : ByteArray) (rn : Int) (ra : Option Addr) (d ca : Nat) (w : World) (hf : BoxN w fb 117 [.slice a n c]) (h : UpRow w base (.slice a n c) l) (hn : n = l.length) (hl : n ≤ 1099511627776) (he : ErrN w) (hbase : base ≤ w.heap.size) (hfb : base ≤ fb) (hn1 : n ≤ 1048576) :
    Calls Tryz.prog 110 #[.pointer (some ⟨fb, 0, none⟩), .agg #[.int .i64 e, .int .i64 q, .int .i64 k, .string id, .int .i64 rn, .slice ra d ca]] w fun e w' => FoldAns w base fb (dropO (l.map UE.u) id) e w' := by
  obtain ⟨w0, hw0⟩ : ∃ w0, w.alloc (.cells #[.int .i64 e, .int .i64 q, .int .i64 k, .string id, .int .i64 rn, .slice ra d ca] 59) = w0 := ⟨_, rfl⟩
  have HE : Hid (w.alloc (.cells #[.int .i64 e, .int .i64 q, .int .i64 k, .string id, .int .i64 rn, .slice ra d ca] 59) = w0) := hw0
  have HQ : Hid (BoxN w0 w.heap.size 59 [.int .i64 e, .int .i64 q, .int .i64 k, .string id, .int .i64 rn, .slice ra d ca]) := by show BoxN _ _ _ _; rw [← hw0]; exact BoxN.new _ _ _
  have HB : Hid (Below w.heap.size w w0) := by show Below _ _ _; rw [← hw0]; exact (Below.refl _ _).alloc (Nat.le_refl _) _
  have HX : Hid (∀ W, Below w0.heap.size w0 W → BoxN W fb 117 [.slice a n c] ∧ UpRow W base (.slice a n c) l ∧ ErrN W ∧ Below w.heap.size w W ∧ BoxN W w.heap.size 59 [.int .i64 e, .int .i64 q, .int .i64 k, .string id, .int .i64 rn, .slice ra d ca]) := fun W hb => ⟨(hf.stays HB.out).stays hb, (h.stays HB.out).stays hb, (he.below HB.out).below hb, HB.out.trans (hb.mono HB.out.size), HQ.out.stays hb⟩
  have HN : Hid (n = l.length) := hn
  have r3 := (HX.out w0 (Below.refl _ _)).2.2.2.2.cell 3 rfl
  have HT : Hid (Calls Tryz.prog 116 #[.pointer (some ⟨fb, 0, none⟩), .string id] w0 fun e w' => ThereAns (atU (l.map UE.u) id) a e ∧ Below w0.heap.size w0 w') := implThere_any fb a n c base id l w0 (HX.out w0 (Below.refl _ _)).1 (HX.out w0 (Below.refl _ _)).2.1 HN.out hl (HX.out w0 (Below.refl _ _)).2.2.1
  clear hw0 hf h hn he HQ HB
  go_enter Tryz.func110, Tryz.ntmps110
  go_upto_region 1 with fail
  rw [HE.out]
  clear HE
  go_wp2_with fail
  refine HT.out.mono ?_
  rintro ee w1 ⟨hth, hb1⟩
  have HB1 : Hid (Below w0.heap.size w0 w1) := hb1
  clear hb1 HT r3
  rcases hth with ⟨kk, g, hk, rfl, rfl⟩ | ⟨hk, t, v, rfl⟩
  case inr =>
    have HF : Hid (dropO (l.map UE.u) id = none) := by show _ = _; rw [dropO, hk]
    clear hk
    go_wp2_with fail
    exact ⟨rfl, .inl ⟨HF.out, t, v, rfl⟩, (HX.out _ HB1.out).2.2.2.1.mono hbase⟩
  have HF : Hid (dropO (l.map UE.u) id = some ((keptE id l).map UE.u)) := by show _ = _; rw [dropO, hk, keptE_map]
  have hkl : kk < l.length := by simpa using (atU_is hk).1
  have HK1 : Hid ((l[kk]).u.id = id) := by show _ = _; simpa using (atU_is hk).2
  have HK2 : Hid (∀ j (hj : j < l.length), j < kk → (l[j]).u.id ≠ id) := fun j hj hjk => by
    have h := hk
    rw [atU, List.findIdx?_eq_some_iff_getElem] at h
    obtain ⟨_, _, h3⟩ := h
    simpa using h3 j hjk
  have y0 : ∀ P : Past w1, P.world.cell? ⟨fb, 0, none⟩ = some (.slice (some ⟨g, 0, none⟩) n c) := fun P => (HX.out _ (HB1.out.trans (P.below.mono HB1.out.size))).1.cell 0 rfl
  have y3 : ∀ P : Past w1, P.world.cell? ⟨w.heap.size, 3, none⟩ = some (.string id) := fun P => (HX.out _ (HB1.out.trans (P.below.mono HB1.out.size))).2.2.2.2.cell 3 rfl
  have hne := past_some w1
  clear hk
  go_upto_region 2 with fail
  refine wp_region_past_tail1 7 (by kernel_rfl) (by kernel_rfl) (by kernel_rfl) (by kernel_rfl) rfl rfl _ rfl (fun ops HO => ?_)
  simp only [List.take_succ_cons, List.take_zero, List.drop_succ_cons, List.drop_zero]
  iterate 6 (quiet_step ((first | fail)))
  refine wpQuiet_nil ?_
  rintro _ ⟨z, rfl⟩
  have HB2 : Hid (Below w0.heap.size w0 z.world) := HB1.out.trans (z.below.mono HB1.out.size)
  obtain ⟨W2, hW2⟩ : ∃ W2, z.world = W2 := ⟨_, rfl⟩
  rw [hW2] at HB2 ⊢
  clear hW2 z y0 y3 hne
  have HOw : Hid (OwnU W2 base (some ⟨g, 0, none⟩) n c l) := by
    have h := (HX.out _ HB2.out).2.1.1
    rw [← HN.out] at h
    exact h
  have HC : Hid (Calls Tryz.prog 117 #[.slice (some ⟨g, 0, none⟩) n c, .string id] W2 fun e w' => e = .returned (.slice (some ⟨g, 0, none⟩) (keptE id l).length c) ∧ OwnU w' base (some ⟨g, 0, none⟩) (keptE id l).length c (keptE id l) ∧ W2.grownBy w' (some g)) := implWithoutU_any base g n c l id kk W2 HOw.out hn1 hkl HK2.out HK1.out
  go_wp2_with fail
  refine HC.out.mono ?_
  rintro _ W3 ⟨rfl, ho3, hg3⟩
  have hx := HX.out _ HB2.out
  have hrow := hx.2.1
  have hU3 : UpRow W3 base (.slice (some ⟨g, 0, none⟩) (keptE id l).length c) (keptE id l) := hrow.remade ho3 hg3 (fun e he => .inl (List.mem_filter.1 he).1) (List.Pairwise.sublist List.filter_sublist hrow.2.2)
  have hF3 : BoxN W3 fb 117 [.slice (some ⟨g, 0, none⟩) n c] := hx.1.grown hg3 (fun e => hx.1.noRow hrow.1 (by decide) e)
  have f3 := hF3.cell 0 rfl
  have z3 := hF3.frozen 0
  have HR : Hid (FoldAns w base fb (dropO (l.map UE.u) id) (.returned (.tuple #[])) (W3.setCell ⟨fb, 0, none⟩ (.slice (some ⟨g, 0, none⟩) (keptE id l).length c))) := by
    refine ⟨.inr ⟨_, _, c, _, rfl, HF.out, rfl, hF3.set 0 _, hU3.setBox hF3 (by decide) (by decide)⟩, ?_⟩
    have h1 : Below base w W2 := hx.2.2.2.1.mono hbase
    have h2 := h1.grown hg3 (Nat.le_trans hbase hx.2.2.2.1.size) (fun q hq => by injection hq with hq; subst hq; exact (hrow.lts.1 g rfl).1)
    exact h2.setCell (by dsimp only; exact hfb) _
  clear hx ho3 hg3 hrow hU3 hF3 HF HC
  go_wp2_with fail
  go_end0
  exact HR.out

end Go.Proofs.YtammmecddnafaaaGreatDoor

namespace Go.Proofs.YtammmecddnafaaaGreatDoor
open Go.RowKit
set_option linter.unusedVariables false

/-- What a record that begins an upload makes, said as the program goes. -/
def beginO (l : List U) (id : ByteArray) (rn : Int) : Option (List U) := if atU l id = none ∧ l.length < 10 then some (l.take (lessU l id) ++ [⟨id, rn, [], false⟩] ++ l.drop (lessU l id)) else none

section
variable {l : List U} {e q : Int} {id : ByteArray} {rn : Int} {ys : List Int}

theorem one1 (h : Asc l) : beginO l id rn = oneU l ⟨e, q, 1, id, rn, ys⟩ := by
  rw [beginO, oneU, if_pos rfl]
  by_cases hc : atU l id = none ∧ l.length < 10
  · rw [if_pos hc, if_pos hc, makeU_less h hc.1]
    simp
  · rw [if_neg hc, if_neg hc]

theorem one2 (h : Asc l) : growO l id rn ys = oneU l ⟨e, q, 2, id, rn, ys⟩ := by
  rw [growO, oneU, if_neg (show ¬ (2 : Int) = 1 by decide)]
  dsimp only
  cases atU l id with
  | none => rfl
  | some k =>
    dsimp only
    cases l[k]? with
    | none => rfl
    | some u =>
      dsimp only
      rw [if_pos (show (2 : Int) = 2 from rfl)]
      by_cases hc : u.done = true ∨ rn ≠ (u.zs.length : Int) ∨ u.want < rn + (ys.length : Int)
      · rw [if_pos hc, if_neg]
        intro hf
        simp only [fitB, Bool.and_eq_true, Bool.not_eq_true', decide_eq_true_eq] at hf
        rcases hc with hc | hc | hc
        · rw [hf.1.1] at hc; cases hc
        · exact hc hf.1.2
        · omega
      · rw [if_neg hc, if_pos]
        simp only [fitB, Bool.and_eq_true, Bool.not_eq_true', decide_eq_true_eq]
        simp only [not_or] at hc
        exact ⟨⟨by simpa using hc.1, by omega⟩, by omega⟩

theorem one3 (h : Asc l) : doneO l id = oneU l ⟨e, q, 3, id, rn, ys⟩ := by
  rw [doneO, oneU, if_neg (show ¬ (3 : Int) = 1 by decide)]
  dsimp only
  cases atU l id with
  | none => rfl
  | some k =>
    dsimp only
    cases l[k]? with
    | none => rfl
    | some u =>
      dsimp only
      rw [if_neg (show ¬ (3 : Int) = 2 by decide), if_pos (show (3 : Int) = 3 from rfl)]
      by_cases hc : u.done = true ∨ (u.zs.length : Int) ≠ u.want
      · rw [if_pos hc, if_neg]
        rintro ⟨h1, h2⟩
        rcases hc with hc | hc
        · rw [h1] at hc; cases hc
        · exact hc h2
      · rw [if_neg hc, if_pos]
        simp only [not_or] at hc
        exact ⟨by simpa using hc.1, by omega⟩

theorem one4 (h : Asc l) : dropO l id = oneU l ⟨e, q, 4, id, rn, ys⟩ := by
  rw [dropO, oneU, if_neg (show ¬ (4 : Int) = 1 by decide)]
  dsimp only
  cases hk : atU l id with
  | none => rfl
  | some k =>
    dsimp only
    obtain ⟨hkl, _⟩ := atU_is hk
    rw [List.getElem?_eq_getElem hkl]
    dsimp only
    rw [if_neg (show ¬ (4 : Int) = 2 by decide), if_neg (show ¬ (4 : Int) = 3 by decide), if_pos (show (4 : Int) = 4 from rfl), erase_kept h hk]
end

end Go.Proofs.YtammmecddnafaaaGreatDoor

namespace Go.Proofs.YtammmecddnafaaaGreatDoor
open Go.RowKit
set_option linter.unusedVariables false

theorem implKind_any (k : Int) (w : World) :
    Calls Tryz.prog 105 #[.int .i64 k] w fun e w' => e = .returned (.bool (decide (1 ≤ k ∧ k ≤ 4))) ∧ w' = w := by
  by_cases h1 : 1 ≤ k
  · by_cases h4 : k ≤ 4
    · have HF : Hid (decide (1 ≤ k ∧ k ≤ 4) = true) := decide_eq_true ⟨h1, h4⟩
      have d1 : decide (1 ≤ k) = true := decide_eq_true h1
      have d4 : decide (k ≤ 4) = true := decide_eq_true h4
      rw [HF.out]
      go_enter Tryz.func105, Tryz.ntmps105
      go_wp2_with fail
      go_ret
      exact ⟨rfl, rfl⟩
    · have HF : Hid (decide (1 ≤ k ∧ k ≤ 4) = false) := decide_eq_false (fun h => h4 h.2)
      have d1 : decide (1 ≤ k) = true := decide_eq_true h1
      have d4 : decide (k ≤ 4) = false := decide_eq_false h4
      rw [HF.out]
      go_enter Tryz.func105, Tryz.ntmps105
      go_wp2_with fail
      go_ret
      exact ⟨rfl, rfl⟩
  · have HF : Hid (decide (1 ≤ k ∧ k ≤ 4) = false) := decide_eq_false (fun h => h1 h.1)
    have d1 : decide (1 ≤ k) = false := decide_eq_false h1
    rw [HF.out]
    go_enter Tryz.func105, Tryz.ntmps105
    go_wp2_with fail
    go_ret
    exact ⟨rfl, rfl⟩

end Go.Proofs.YtammmecddnafaaaGreatDoor
