/- Texts of this claim, one behind the other: Mem, Reg, Sp, Wd. -/
import Derived.Test.YtdfihpnmiiaflaaDoorProg
import Derived.WalkKit
import Derived.WalkSpells
import Derived.WalkLawsBesides
import Derived.Lib.Hide
import Derived.Deep.DeepFit
import Derived.Deep.AppendLies
import Derived.Deep.Draws
import Derived.Maps.AppendAt
import Derived.Deep.RegionHeld3
import Derived.Laws.BitsAllLaws
set_option linter.unusedSimpArgs false
set_option linter.unusedVariables false
section
/- Words for memory: a slice of bytes that reads as a list; a row of bytes of the call's own; what a call leaves as it was. -/
namespace Go.Proofs.YtdfihpnmiiaflaaDoor
open Go.RowKit

/-- The cell of a byte. -/
def B8 (b : UInt8) : Value := .int .u8 (b.toNat : Int)
/-- The cells of bytes. -/
def cs8 (l : List UInt8) : List Value := l.map B8

theorem cs8_length (l : List UInt8) : (cs8 l).length = l.length := by simp [cs8]
theorem cs8_append (a b : List UInt8) : cs8 (a ++ b) = cs8 a ++ cs8 b := by simp [cs8]
theorem cs8_one (l : List UInt8) : ∀ u ∈ cs8 l, u.oneCell' = true := by
  intro u hu
  obtain ⟨b, _, rfl⟩ := List.mem_map.1 hu
  rfl

theorem add_block (a : Addr) (n : Nat) : (a.add n).block = a.block := by unfold Addr.add; split <;> rfl
theorem add_add (a : Addr) (i j : Nat) : (a.add i).add j = a.add (i + j) := by
  unfold Addr.add
  by_cases hi : i = 0 <;> by_cases hj : j = 0 <;> simp [hi, hj, Nat.add_assoc]

/-- The slice (A, n, c) reads, in w, as the bytes l, and lies below block top. -/
def Rd (w : World) (top : Nat) (A : Option Addr) (n c : Nat) (l : List UInt8) : Prop :=
  l.length = n ∧ n ≤ c ∧ (0 < n → ∃ ad, A = some ad ∧ ad.block < top ∧ ∀ j u, l[j]? = some u → w.cell? (ad.add j) = some (B8 u))

/-- v is a row of the call's own, from block base on, that holds the bytes l. -/
def Ow (w : World) (base : Nat) (v : Value) (l : List UInt8) : Prop := w.ownsRow base 5 1 v l.length (cs8 l)

/-- The world w' is w but for block g and what is new. -/
def Only (g : Nat) (w w' : World) : Prop := w.grownBy w' (some g)

section
variable {w w' w2 : World} {top base n c g : Nat} {A : Option Addr} {l : List UInt8} {v : Value}

theorem Rd.len (h : Rd w top A n c l) : l.length = n := h.1
theorem Rd.cap (h : Rd w top A n c l) : n ≤ c := h.2.1
theorem Rd.nil (w : World) (top c : Nat) (A : Option Addr) : Rd w top A 0 c [] := ⟨rfl, Nat.zero_le _, fun h => absurd h (by omega)⟩
theorem Rd.keep (h : Rd w top A n c l) (hk : ∀ p : Addr, p.block < top → w'.cell? p = w.cell? p) : Rd w' top A n c l :=
  ⟨h.1, h.2.1, fun hn => by
    obtain ⟨ad, e, hb, hc⟩ := h.2.2 hn
    exact ⟨ad, e, hb, fun j u hu => (hk _ (by rw [add_block]; exact hb)).trans (hc j u hu)⟩⟩
theorem Rd.more {top' : Nat} (h : Rd w top A n c l) (hB : top ≤ top') : Rd w top' A n c l :=
  ⟨h.1, h.2.1, fun hn => by
    obtain ⟨ad, e, hb, hc⟩ := h.2.2 hn
    exact ⟨ad, e, by omega, hc⟩⟩
theorem Rd.below (h : Rd w top A n c l) (hb : Below top w w') : Rd w' top A n c l := h.keep fun _ hp => hb.cell hp
theorem Rd.grown {row : Option Nat} (h : Rd w top A n c l) (hg : w.grownBy w' row) (hB : top ≤ w.heap.size) (hr : ∀ g, row = some g → top ≤ g) : Rd w' top A n c l :=
  h.keep fun p hp => World.cell?_of_block (hg.block p.block (by omega) (fun e => by have := hr _ e.symm; omega))
theorem Rd.at_ (h : Rd w top A n c l) {k : Nat} (hk : k < n) : ∃ ad, A = some ad ∧ ad.block < top ∧ ∃ u, l[k]? = some u ∧ w.cell? (ad.add k) = some (B8 u) := by
  obtain ⟨ad, e, hb, hc⟩ := h.2.2 (by omega)
  have hl : k < l.length := by have := h.1; omega
  exact ⟨ad, e, hb, l[k], List.getElem?_eq_getElem hl, hc k _ (List.getElem?_eq_getElem hl)⟩
/-- A part from k on, as the model cuts it. -/
theorem Rd.drop_ (h : Rd w top A n c l) {k : Nat} (hk : k ≤ n) : Rd w top (if c = k then A else A.map (·.add k)) (n - k) (c - k) (l.drop k) := by
  refine ⟨by rw [List.length_drop, h.1], by have := h.2.1; omega, fun hn => ?_⟩
  obtain ⟨ad, rfl, hb, hcell⟩ := h.2.2 (by omega)
  have := h.2.1
  rw [if_neg (by omega)]
  refine ⟨ad.add k, rfl, by rw [add_block]; exact hb, fun j u hu => ?_⟩
  rw [add_add]
  exact hcell _ u (by rw [← hu, List.getElem?_drop])
theorem Rd.take_ (h : Rd w top A n c l) {k : Nat} (hk : k ≤ n) : Rd w top A k c (l.take k) := by
  refine ⟨by rw [List.length_take, h.1]; omega, by have := h.2.1; omega, fun hn => ?_⟩
  obtain ⟨ad, rfl, hb, hcell⟩ := h.2.2 (by omega)
  refine ⟨ad, rfl, hb, fun j u hu => hcell j u ?_⟩
  rw [List.getElem?_take] at hu
  split at hu
  · exact hu
  · cases hu

theorem Rd.recap {c' : Nat} (h : Rd w top A n c l) (hc : n ≤ c') : Rd w top A n c' l := ⟨h.1, hc, h.2.2⟩
theorem Ow.rd (h : Ow w base v l) : ∃ A c, v = .slice A l.length c ∧ Rd w w.heap.size A l.length c l := by
  rcases h.2 with ⟨rfl, hn⟩ | ⟨g, cap, cur, rfl, hb, hg, hc, _, _, _⟩
  · rw [hn]
    refine ⟨none, 0, rfl, ?_⟩
    rw [List.eq_nil_of_length_eq_zero hn]
    exact Rd.nil _ _ _ _
  · refine ⟨some ⟨g, 0, none⟩, cap, rfl, rfl, hc, fun hn => ⟨_, rfl, (Array.getElem?_eq_some_iff.1 hg).1, fun j u hu => ?_⟩⟩
    exact World.ownsRow.cells h (g := g) rfl j (B8 u) (by simp [cs8, hu])

/-- A row of the call's own lies from base on: as a slice that reads. -/
theorem Ow.rdTop (h : Ow w base v l) : ∃ A c, v = .slice A l.length c ∧ Rd w w.heap.size A l.length c l ∧ (∀ ad, A = some ad → base ≤ ad.block) := by
  rcases h.2 with ⟨rfl, hn⟩ | ⟨g, cap, cur, rfl, hb, hg, hc, _, _, _⟩
  · obtain ⟨A, c, e, r⟩ := h.rd
    injection e with e1 e2 e3
    subst e1
    exact ⟨_, _, by rw [hn, e3], r, fun _ h => by cases h⟩
  · obtain ⟨A, c, e, r⟩ := h.rd
    injection e with e1 e2 e3
    subst e1
    exact ⟨_, _, by rw [e3], r, fun ad h => by injection h with h; subst h; exact hb⟩

theorem Only.refl (g : Nat) (w : World) : Only g w w := World.grownBy.refl w _
theorem Only.of_below (h : Below w.heap.size w w') : Only g w w' := ⟨h.os, h.tape, h.output, h.size, fun i hi _ => h.block i hi⟩
theorem Only.trans (h : Only g w w') (k : Only g w' w2) : Only g w w2 :=
  ⟨k.os.trans h.os, k.tape.trans h.tape, k.output.trans h.output, Nat.le_trans h.size k.size, fun i hi hne => (k.block i (Nat.lt_of_lt_of_le hi h.size) hne).trans (h.block i hi hne)⟩
theorem Only.below {B : Nat} (h : Only g w w') (hg : B ≤ g) (hB : B ≤ w.heap.size) : Below B w w' :=
  ⟨h.os, h.tape, h.output, h.size, fun i hi => h.block i (by omega) (fun e => by injection e; omega)⟩
theorem Only.set (w : World) (o : Nat) (u : Value) : Only g w (w.setCell ⟨g, o, none⟩ u) :=
  ⟨rfl, rfl, rfl, by simp [World.setCell], fun i hi hne => Below.heap_setCell w _ u i (fun e => hne (by subst e; rfl))⟩
theorem Only.cell (h : Only g w w') {p : Addr} (hp : p.block < w.heap.size) (hne : p.block ≠ g) : w'.cell? p = w.cell? p :=
  World.cell?_of_block (h.block p.block hp (fun e => hne (by injection e)))
theorem Rd.only (h : Rd w top A n c l) (ho : Only g w w') (ht : top ≤ w.heap.size) (hg : top ≤ g) : Rd w' top A n c l := h.grown ho ht (fun k e => by injection e with e; omega)
theorem Ow.lower {base' : Nat} (h : Ow w base v l) (hb : base' ≤ base) : Ow w base' v l := by
  refine ⟨h.1, ?_⟩
  rcases h.2 with hn | ⟨g, cap, cur, hv, hbg, r⟩
  · exact .inl hn
  · exact .inr ⟨g, cap, cur, hv, by omega, r⟩
theorem Ow.alloc (h : Ow w base v l) (o : Obj) : Ow (w.alloc o) base v l := World.ownsRow.alloc h o
theorem Ow.below (h : Ow w base v l) (hb : Below w.heap.size w w') : Ow w' base v l :=
  World.ownsRow.kept h (row := none) ⟨hb.os, hb.tape, hb.output, hb.size, fun k hk _ => hb.block k hk⟩ (by cases v.ownBlock <;> simp)
end

/-- The bytes of a list as a string. -/
def str (l : List UInt8) : ByteArray := ⟨l.toArray⟩

theorem nums_back (l : List UInt8) : (l.map fun b => (b.toNat : Int)).map (fun n => UInt8.ofNat n.toNat) = l := by
  rw [List.map_map]
  exact (List.map_congr_left (fun b _ => by simp)).trans (List.map_id l)

/-- Bytes as a string. -/
theorem run_str {w : World} {top n c : Nat} {A : Option Addr} {l : List UInt8} (h : Rd w top A n c l) :
    (convert 30 9 (.slice A n c)).run Tryd.prog w = .ok (.string (str l)) w := by
  rw [run_convert_bytes_string w 30 9 5 A n c Tryd.underlying30 Tryd.underlying5 Tryd.underlying9]
  rcases A with _ | ad
  · have hn : n = 0 := by
      rcases Nat.eq_zero_or_pos n with h0 | h0
      · exact h0
      · obtain ⟨ad, e, _⟩ := h.2.2 h0
        cases e
    have hl : l = [] := List.eq_nil_of_length_eq_zero (by rw [h.1, hn])
    subst hl
    simp [Conv.bytesToString, str]
    rfl
  · have hl : (loadCells ad n).run Tryd.prog w = .ok ((l.map fun b => (b.toNat : Int)).map (Value.int .u8)).toArray w := by
      have := run_loadCells_list (P := Tryd.prog) w ad ((l.map fun b => (b.toNat : Int)).map (Value.int .u8)) (fun j v hj => by
        rcases Nat.eq_zero_or_pos n with h0 | h0
        · have hl : l = [] := List.eq_nil_of_length_eq_zero (by rw [h.1, h0])
          subst hl
          simp at hj
        · obtain ⟨ad', e, _, hc⟩ := h.2.2 h0
          injection e with e
          subst e
          rw [List.map_map, List.getElem?_map] at hj
          cases hu : l[j]? with
          | none => rw [hu] at hj; cases hj
          | some u =>
            rw [hu] at hj
            rw [hc j u hu]
            simpa [B8] using hj)
      simpa [h.1] using this
    rw [run_bytesToString w ad n c _ hl, foldl_push_bytes, nums_back]
    simp [str, ByteArray.empty, ByteArray.emptyWithCapacity]
    rfl


theorem info_u8 : (Tryd.prog.info? 5).map (fun i => (i.zero, i.size, i.bytes)) = some (some (.int .u8 0), 1, 1) := by kernel_rfl

/-- append onto a row of the call's own, of a slice that reads. -/
theorem run_app {w : World} {base : Nat} {v : Value} {xs : List UInt8} (hown : Ow w base v xs) {top n c : Nat} {A : Option Addr} {l : List UInt8} (hr : Rd w top A n c l)
    (hb : xs.length + n ≤ 140737488355328) (hbase : base ≤ w.heap.size) (ty : TypeId) :
    ∃ v' w', (Builtin.append_ #[30, 30] ty #[v, .slice A n c]).run Tryd.prog w = .ok v' w' ∧ Ow w' base v' (xs ++ l) ∧ w.grownBy w' v.ownBlock ∧
      (v'.ownBlock = v.ownBlock ∨ v'.ownBlock = some w.heap.size) := by
  obtain ⟨i, hi, hz0, hz1, hz2⟩ := info_parts info_u8
  rcases A with _ | ad
  · have hn : n = 0 := by
      rcases Nat.eq_zero_or_pos n with h0 | h0
      · exact h0
      · obtain ⟨ad, e, _⟩ := hr.2.2 h0
        cases e
    have hl : l = [] := List.eq_nil_of_length_eq_zero (by rw [hr.1, hn])
    subst hl hn
    refine ⟨v, w, ?_, by simpa using hown, World.grownBy.refl w _, .inl rfl⟩
    rcases hown.2 with ⟨rfl, _⟩ | ⟨g, cap, cur, rfl, _, _, hnc, _⟩
    · simp [Builtin.append_, run_underlying Tryd.underlying30, sizeOf, typeInfo, hi, Builtin.lenOf, Builtin.firstCells]
    · simp [Builtin.append_, run_underlying Tryd.underlying30, sizeOf, typeInfo, hi, Builtin.lenOf, Builtin.firstCells, hnc, storeCells]
  · have hcells : ∀ j u, (cs8 l)[j]? = some u → w.cell? (ad.add j) = some u := by
      intro j u hu
      rcases Nat.eq_zero_or_pos n with h0 | h0
      · have hl : l = [] := List.eq_nil_of_length_eq_zero (by rw [hr.1, h0])
        subst hl
        simp [cs8] at hu
      · obtain ⟨ad', e, _, hc⟩ := hr.2.2 h0
        have e := Option.some.inj e
        subst e
        rw [cs8, List.getElem?_map] at hu
        cases hx : l[j]? with
        | none => rw [hx] at hu; cases hu
        | some x =>
          rw [hx] at hu
          rw [hc j x hx]
          simpa using hu
    obtain ⟨v', w', hrun, h2, h3, _, h5⟩ := run_append_own_at (P := Tryd.prog) w base 30 ty 5 i (.int .u8 0) 1 1 Tryd.underlying30 hi hz0 hz1 hz2 rfl (by decide) v xs.length (cs8 xs) hown ad n c (cs8 l)
      (by rw [cs8_length, hr.1, Nat.mul_one]) hcells (cs8_one l) (by simp only [maxLen]; omega) (by omega) hbase
    refine ⟨v', w', hrun, ?_, h3, h5⟩
    unfold Ow
    rw [cs8_append, List.length_append, hr.1]
    exact h2

theorem wpList_app {w : World} {ops : Array Oper} {rest : List Oper} {o : Oper} {a : Act} {Q : Exit → Act → World → Prop} (hgd : o.guard = none) (s x : Operand)
    (ho : o.op = .call { callee := .builtin .append, args := #[s, x], argTypes := #[30, 30] })
    {base : Nat} {v : Value} {xs : List UInt8} (hs : a.eval s = v) (hown : Ow w base v xs) {top n c : Nat} {A : Option Addr} {l : List UInt8} (hx : a.eval x = .slice A n c) (hr : Rd w top A n c l)
    (hb : xs.length + n ≤ 140737488355328) (hbase : base ≤ w.heap.size)
    (h : ∀ v' w', Ow w' base v' (xs ++ l) → w.grownBy w' v.ownBlock → (v'.ownBlock = v.ownBlock ∨ v'.ownBlock = some w.heap.size) → wpList Tryd.prog ops Q rest (a.put o.dst v') w') : wpList Tryd.prog ops Q (o :: rest) a w := by
  refine wpList_plain hgd fun K hK => ?_
  obtain ⟨v', w', hrun, h2, h3, h4⟩ := run_app hown hr hb hbase o.type
  unfold Oper.wp execOp
  simp only [ho, resolve, invoke, builtin, Sem.run_bind, Sem.run_pure, Result.andThen_ok, List.map_toArray, List.map_cons, List.map_nil, hs, hx, hrun]
  exact hK _ _ (h v' w' h2 h3 h4)

/-- make([]byte, 0, n). -/
theorem wpList_make {w : World} {ops : Array Oper} {rest : List Oper} {o : Oper} {a : Act} {Q : Exit → Act → World → Prop} (hgd : o.guard = none) (l c : Operand)
    (ho : o.op = Op.makeSlice 30 l c) {kl kc : IntKind} (C : Int) (hl : a.eval l = .int kl 0) (hc : a.eval c = .int kc C) (h0 : 0 ≤ C) (h1 : C ≤ 140737488355328) {base : Nat} (hbase : base ≤ w.heap.size)
    (h : ∀ v' w', Ow w' base v' [] → Below w.heap.size w w' → w.heap.size < w'.heap.size → wpList Tryd.prog ops Q rest (a.put o.dst v') w') : wpList Tryd.prog ops Q (o :: rest) a w := by
  obtain ⟨i, hi, hz0, hz1, hz2⟩ := info_parts info_u8
  refine wpList_plain hgd fun K hK => ?_
  have hm : (maxLen : Int) = 9223372036854775807 := by simp [maxLen]
  have hr := run_make (P := Tryd.prog) w 30 5 i (.int .u8 0) Tryd.underlying30 hi hz0 kl kc 0 C (Int.le_refl _) h0 (by rw [hz2]; omega) (by omega)
  unfold Oper.wp execOp
  simp only [ho, hl, hc, hr, Sem.run_bind, Result.andThen_ok, Sem.run_pure]
  refine hK _ _ (h _ _ ?_ ?_ (by simp))
  · have := World.ownsRow_made (base := base) (e := 5) (size := 1) w (madeCells (Value.int .u8 0).cells (C.toNat * i.size)) C.toNat hbase (by simp only [maxLen]; omega) (by rw [size_madeCells, hz1])
    simpa [Ow, cs8] using this
  · exact (Below.refl _ _).alloc (Nat.le_refl _) _

/-- A literal slice of one byte. -/
theorem Rd.lit1 (w : World) (k : Int) (h0 : 0 ≤ k) (h1 : k < 256) : Rd (w.alloc (.cells #[.int .u8 k] 5)) (w.heap.size + 1) (some ⟨w.heap.size, 0, none⟩) 1 1 [UInt8.ofNat k.toNat] := by
  refine ⟨rfl, Nat.le_refl _, fun _ => ⟨_, rfl, by simp, fun j u hu => ?_⟩⟩
  rcases j with _ | j
  · simp only [List.getElem?_cons_zero, Option.some.injEq] at hu
    subst hu
    have : (UInt8.ofNat k.toNat).toNat = k.toNat := by simp; omega
    rw [show ((⟨w.heap.size, 0, none⟩ : Addr).add 0) = ⟨w.heap.size, 0, none⟩ from rfl, cell_of_row _ w.heap.size 0 _ 5 (0, 0) (heap_alloc_new w _)]
    rw [B8, this, Int.toNat_of_nonneg h0]
    rfl
  · simp at hu

/-- A literal slice of bytes. -/
theorem Ow.lit (w : World) (cs : Array Value) (l : List UInt8) (h : cs.toList = cs8 l) (hl : l.length ≤ 4294967296) : Ow (w.alloc (.cells cs 5)) w.heap.size (.slice (some ⟨w.heap.size, 0, none⟩) l.length l.length) l := by
  have hs : cs.size = l.length * 1 := by rw [← Array.length_toList, h, cs8_length, Nat.mul_one]
  have := World.ownsRow_lit (base := w.heap.size) (e := 5) (size := 1) w cs l.length (Nat.le_refl _) (by simp only [maxLen]; omega) hs
  rw [h] at this
  exact this
theorem Rd.lit (w : World) (cs : Array Value) (l : List UInt8) (h : cs.toList = cs8 l) (hl : l.length ≤ 4294967296) : Rd (w.alloc (.cells cs 5)) (w.heap.size + 1) (some ⟨w.heap.size, 0, none⟩) l.length l.length l := by
  obtain ⟨A, c, e, r⟩ := (Ow.lit w cs l h hl).rd
  injection e with e1 e2 e3
  subst e1 e3
  simpa using r

/-- The same, its length as a number n, below the top of its own world. -/
theorem Rd.litN (w : World) (cs : Array Value) (l : List UInt8) (n : Nat) (h : cs.toList = cs8 l) (hn : l.length = n) (hl : n ≤ 4294967296) : Rd (w.alloc (.cells cs 5)) (w.alloc (.cells cs 5)).heap.size (some ⟨w.heap.size, 0, none⟩) n n l := by
  subst hn
  have := Rd.lit w cs l h hl
  simpa using this
theorem Ow.rdN {w : World} {base n : Nat} {l : List UInt8} {v : Value} (h : Ow w base v l) (hn : l.length = n) : ∃ A c, v = .slice A n c ∧ Rd w w.heap.size A n c l := by
  subst hn
  exact h.rd

theorem str_loop (l : List UInt8) : ∀ (k i : Nat) (r : List UInt8), l.length - i = k → ByteArray.toList.loop (str l) i r = r.reverse ++ l.drop i
  | 0, i, r, h => by
    rw [ByteArray.toList.loop, if_neg (by simp [str, ByteArray.size]; omega), List.drop_eq_nil_of_le (by omega), List.append_nil]
  | k + 1, i, r, h => by
    rw [ByteArray.toList.loop, if_pos (by simp [str, ByteArray.size]; omega), str_loop l k (i + 1) _ (by omega)]
    rw [List.drop_eq_getElem_cons (i := i) (by omega)]
    have : (str l).get! i = l[i]'(by omega) := by
      simp only [str, ByteArray.get!]
      rw [getElem!_pos _ i (by simp; omega)]
      simp
    rw [this]
    simp
@[go_sem] theorem str_toList (l : List UInt8) : (str l).toList = l := by
  rw [ByteArray.toList, str_loop l l.length 0 [] (by omega)]
  simp
theorem str_inj {a b : List UInt8} : str a = str b ↔ a = b := ⟨fun h => by rw [← str_toList a, h, str_toList], fun h => by rw [h]⟩

section
variable {w w1 w2 : World} {g : Nat} {o : Obj}
theorem bl0 (w : World) : Below w.heap.size w w := Below.refl _ _
theorem bl_call (k : Below w.heap.size w w1) (h : Below w1.heap.size w1 w2) : Below w.heap.size w w2 := k.trans (h.mono k.size)
theorem bl_alloc (k : Below w.heap.size w w1) (o : Obj) : Below w.heap.size w (w1.alloc o) := k.alloc k.size o
theorem bl_only (k : Below w.heap.size w w1) (h : Only g w1 w2) (hg : w.heap.size ≤ g) : Below w.heap.size w w2 := k.trans (h.below hg k.size)
end

end Go.Proofs.YtdfihpnmiiaflaaDoor
end
section
/- A region that draws its order, walked in one order: what a call has left stays, as a relation R between worlds says; what is read of it is taken at once. -/
namespace Go.Proofs.YtdfihpnmiiaflaaDoor
open Go.RowKit

/-- A relation that tells what stays: every world stays as itself, and step by step. -/
structure Stays (R : World → World → Prop) : Prop where
  refl : ∀ w, R w w
  trans : ∀ {a b c}, R a b → R b c → R a c

/-- All that was there stays. -/
def Old (w w' : World) : Prop := Below w.heap.size w w'
theorem Old.stays : Stays Old := ⟨fun w => Below.refl _ w, fun h k => bl_call h k⟩
/-- All that was there stays, but for the blocks of which 'may' says so. -/
structure Kp (may : Nat → Prop) (w w' : World) : Prop where
  os : w'.os = w.os
  tape : w'.tape = w.tape
  output : w'.output = w.output
  size : w.heap.size ≤ w'.heap.size
  block : ∀ k, k < w.heap.size → ¬ may k → w'.heap[k]? = w.heap[k]?
theorem Kp.stays (may : Nat → Prop) : Stays (Kp may) :=
  ⟨fun _ => ⟨rfl, rfl, rfl, Nat.le_refl _, fun _ _ _ => rfl⟩, fun h k => ⟨k.os.trans h.os, k.tape.trans h.tape, k.output.trans h.output, Nat.le_trans h.size k.size, fun i hi hm => (k.block i (Nat.lt_of_lt_of_le hi h.size) hm).trans (h.block i hi hm)⟩⟩

section
variable {P : Program} {ops : Array Oper} {Q : Exit → Act → World → Prop} {R : World → World → Prop}

theorem held_weaken {md : Region.Mode} {S S' : World → Prop} (h : ∀ W, S' W → S W) : ∀ (fuel : Nat) (listed : Array Bool) (a : Act) (w : World), wpAnyH P md ops Q S' fuel listed a w → wpAnyH P md ops Q S fuel listed a w
  | 0, _, _, _, k => k
  | fuel + 1, _, _, _, k => ⟨k.1, fun i hi => wpOp_mono (fun a' w' r => ⟨h _ r.1, held_weaken h fuel _ a' w' r.2⟩) (k.2 i hi)⟩

theorem reg_start (R : World → World → Prop) {id : Nat} {a : Act} {w : World} (hm : P.follows .mixedOrders = true)
    (h : wpAnyH P .any ops Q (R w.drew) ops.size (Array.replicate ops.size false) a w.drew) : (Code.region id ops true).wp P Q a w := wp_region_held hm h

theorem reg_take (hR : Stays R) (i : Nat) {oi : Oper} {v : Value} {fuel : Nat} {listed : Array Bool} {a : Act} {w : World} (hi : ops[i]? = some oi)
    (hs : Region.noSelect ops = true) (hf : Region.free .any ops listed i = true) (hr : (Region.ready .any ops listed).contains i = true)
    (hQ : ∀ c a w, Q (.panic c) (a.put oi.dst v) w → Q (.panic c) a w) (hw : Region.wanted oi (yielded ops a.tmps) = true) (hy : ∀ W, R w W → (execOp a.eval oi).run P W = .ok (.value v) W)
    (h : wpAnyH P .any ops Q (R w) fuel (listed.setIfInBounds i true) (a.put oi.dst v) w) : wpAnyH P .any ops Q (R w) (fuel + 1) listed a w :=
  wpAnyH_take hi hs hf hr hQ (Or.inl ⟨hw, hy⟩) (hR.refl w) h

theorem reg_skip (hR : Stays R) (i : Nat) {oi : Oper} {fuel : Nat} {listed : Array Bool} {a : Act} {w : World} (hi : ops[i]? = some oi)
    (hs : Region.noSelect ops = true) (hf : Region.free .any ops listed i = true) (hr : (Region.ready .any ops listed).contains i = true)
    (hQ : ∀ c a w, Q (.panic c) (a.put oi.dst undef) w → Q (.panic c) a w) (hw : Region.wanted oi (yielded ops a.tmps) = false)
    (h : wpAnyH P .any ops Q (R w) fuel (listed.setIfInBounds i true) (a.put oi.dst undef) w) : wpAnyH P .any ops Q (R w) (fuel + 1) listed a w :=
  wpAnyH_take hi hs hf hr hQ (Or.inr ⟨hw, rfl⟩) (hR.refl w) h

theorem reg_step (hR : Stays R) (i : Nat) {o : Oper} {fuel : Nat} {listed : Array Bool} {a : Act} {w : World} (hr : Region.ready .any ops listed = [i]) (ho : ops[i]? = some o)
    (h : ∀ K : Act → World → Prop, Shut (∀ a' w', R w w' → wpAnyH P .any ops Q (R w') fuel (listed.setIfInBounds i true) a' w' → K a' w') →
      if Region.wanted o (yielded ops a.tmps) = true then Oper.wp P o a w K Q else K (a.put o.dst undef) w) : wpAnyH P .any ops Q (R w) (fuel + 1) listed a w := by
  refine wpAnyH_all hr (by simp) fun j hj => ?_
  obtain rfl : j = i := by simpa using hj
  have h1 := h (fun a' w' => R w w' ∧ wpAnyH P .any ops Q (R w) fuel (listed.setIfInBounds j true) a' w') (fun a' w' hw hh => ⟨hw, held_weaken (fun W hW => hR.trans hw hW) _ _ _ _ hh⟩)
  unfold wpOp
  simp only [ho]
  split
  · rename_i hw; rw [if_pos hw] at h1; exact .inl h1
  · rename_i hw; rw [if_neg hw] at h1; exact h1

theorem reg_done {S : World → Prop} {listed : Array Bool} {a : Act} {w : World} (hr : Region.ready .any ops listed = []) (h : Q .normal a w) (fuel : Nat) : wpAnyH P .any ops Q S fuel listed a w := wpAnyH_done hr h fuel
end

theorem follows_mixed : Tryd.prog.follows .mixedOrders = true := by kernel_rfl

/-- append, as one operation. -/
theorem wp_app {w : World} {o : Oper} {a : Act} {K : Act → World → Prop} {Q : Exit → Act → World → Prop} (s x : Operand)
    (ho : o.op = .call { callee := .builtin .append, args := #[s, x], argTypes := #[30, 30] })
    {base : Nat} {v : Value} {xs : List UInt8} (hs : a.eval s = v) (hown : Ow w base v xs) {top n c : Nat} {A : Option Addr} {l : List UInt8} (hx : a.eval x = .slice A n c) (hr : Rd w top A n c l)
    (hb : xs.length + n ≤ 140737488355328) (hbase : base ≤ w.heap.size)
    (h : ∀ v' w', Ow w' base v' (xs ++ l) → w.grownBy w' v.ownBlock → K (a.put o.dst v') w') : o.wp Tryd.prog a w K Q := by
  obtain ⟨v', w', hrun, h2, h3, _⟩ := run_app hown hr hb hbase o.type
  unfold Oper.wp execOp
  simp only [ho, resolve, invoke, builtin, Sem.run_bind, Sem.run_pure, Result.andThen_ok, List.map_toArray, List.map_cons, List.map_nil, hs, hx, hrun]
  exact h v' w' h2 h3

theorem exec_load_row {P : Program} {o : Oper} {a : Act} {w : World} (ty : TypeId) (x : Operand) (ho : o.op = .load ty x)
    (g : Nat) (hx : a.eval x = .pointer (some ⟨g, 0, none⟩)) (t : TypeId) (cs : Array Value) (fr : Nat × Nat) (d : TypeDesc) (hg : w.heap[g]? = some (.cells cs t fr))
    (hu : P.underlying ty = some d) (hd : (match d with | .struct _ | .array _ _ => true | _ => false) = true) (hi : (P.info? ty).map (·.size) = some cs.size) :
    (execOp a.eval o).run P w = .ok (.value (.agg cs)) w := by
  unfold execOp
  simp only [ho, hx, Instr.loadAt, Instr.sureAddr, Sem.run_bind, Sem.run_pure, Result.andThen_ok, run_loadVar_row w g t ty cs fr d hg hu hd hi]

section
variable {w w' w0 : World} {g top n c : Nat} {A : Option Addr} {l : List UInt8} {may : Nat → Prop}
theorem Kp.of_only (h : Only g w w') : Kp (· = g) w w' := ⟨h.os, h.tape, h.output, h.size, fun k hk hm => h.block k hk (fun e => hm (by injection e))⟩
theorem Kp.of_old (h : Below w.heap.size w w') : Kp may w w' := ⟨h.os, h.tape, h.output, h.size, fun k hk _ => h.block k hk⟩
theorem Kp.only (h : Kp (· = g) w w') : Only g w w' := ⟨h.os, h.tape, h.output, h.size, fun k hk hm => h.block k hk (fun e => hm (by rw [e]))⟩
theorem bl_kp (k : Below w0.heap.size w0 w) (h : Kp may w w') (hm : ∀ k, may k → w0.heap.size ≤ k) : Below w0.heap.size w0 w' :=
  k.trans ⟨h.os, h.tape, h.output, h.size, fun i hi => h.block i (by have := k.size; omega) (fun e => by have := hm i e; omega)⟩
theorem Kp.cell (h : Kp may w w') {p : Addr} (hp : p.block < w.heap.size) (hm : ¬ may p.block) : w'.cell? p = w.cell? p := World.cell?_of_block (h.block p.block hp hm)
theorem Rd.kp (h : Rd w top A n c l) (hk : Kp may w w') (ht : top ≤ w.heap.size) (hm : ∀ k, may k → top ≤ k) : Rd w' top A n c l :=
  h.keep fun p hp => hk.cell (by omega) (fun e => by have := hm _ e; omega)
/-- A block of bytes, as a slice that reads. -/
theorem Rd.of_block {t : TypeId} {fr : Nat × Nat} (hg : w.heap[g]? = some (.cells (cs8 l).toArray t fr)) (ht : g < top) : Rd w top (some ⟨g, 0, none⟩) l.length l.length l := by
  refine ⟨rfl, Nat.le_refl _, fun _ => ⟨_, rfl, ht, fun j u hu => ?_⟩⟩
  have hadd : (⟨g, 0, none⟩ : Addr).add j = ⟨g, j, none⟩ := by unfold Addr.add; split <;> simp_all
  rw [hadd, cell_of_row w g j _ t fr hg]
  simp [cs8, hu]
end
end Go.Proofs.YtdfihpnmiiaflaaDoor
end
section
/- What sha's functions answer, as plain functions on words and bytes. -/
namespace Go.Proofs.YtdfihpnmiiaflaaDoor

/-- A word turned right by k places. -/
def rotr (k : Nat) (x : UInt64) : UInt64 := UInt64.ofNat ((x.toNat * 2 ^ (64 - k) % 18446744073709551616) ||| (x.toNat / 2 ^ k))
def rot3 (a b c : Nat) (x : UInt64) : UInt64 := rotr a x ^^^ rotr b x ^^^ rotr c x
def shf3 (a b c : Nat) (x : UInt64) : UInt64 := rotr a x ^^^ rotr b x ^^^ UInt64.ofNat (x.toNat / 2 ^ c)
def wordStep (n : UInt64) (b : UInt8) : UInt64 := UInt64.ofNat (n.toNat * 256 % 18446744073709551616 ||| b.toNat)
/-- Eight bytes as a word, the high one first. -/
def wordOf (l : List UInt8) : UInt64 := l.foldl wordStep 0
/-- The first t bytes of a word. -/
def wordB : Nat → UInt64 → List UInt8
  | 0, _ => []
  | t + 1, n => wordB t n ++ [UInt8.ofNat (n.toNat / 2 ^ (56 - 8 * t) % 256)]
def nextW (p : List UInt8) (t : Nat) (ws : List UInt64) : UInt64 :=
  if t < 16 then wordOf ((p.drop (8 * t)).take 8) else ws.getD (t - 16) 0 + shf3 1 8 7 (ws.getD (t - 15) 0) + ws.getD (t - 7) 0 + shf3 19 61 6 (ws.getD (t - 2) 0)
/-- The first t words made from a piece. -/
def sch (p : List UInt8) : Nat → List UInt64
  | 0 => []
  | t + 1 => sch p t ++ [nextW p t (sch p t)]
structure S8 where
  a : UInt64
  b : UInt64
  c : UInt64
  d : UInt64
  e : UInt64
  f : UInt64
  g : UInt64
  h : UInt64
def S8.list (s : S8) : List UInt64 := [s.a, s.b, s.c, s.d, s.e, s.f, s.g, s.h]
def S8.of (l : List UInt64) : S8 := ⟨l.getD 0 0, l.getD 1 0, l.getD 2 0, l.getD 3 0, l.getD 4 0, l.getD 5 0, l.getD 6 0, l.getD 7 0⟩
def round (k w : UInt64) (s : S8) : S8 :=
  let t1 := s.h + rot3 14 18 41 s.e + (s.e &&& s.f ^^^ ~~~s.e &&& s.g) + k + w
  let t2 := rot3 28 34 39 s.a + (s.a &&& s.b ^^^ s.a &&& s.c ^^^ s.b &&& s.c)
  ⟨t1 + t2, s.a, s.b, s.c, s.d + t1, s.e, s.f, s.g⟩
def rounds (K W : List UInt64) : Nat → S8 → S8
  | 0, s => s
  | t + 1, s => round (K.getD t 0) (W.getD t 0) (rounds K W t s)
/-- The eight words behind a piece. -/
def mix (K st : List UInt64) (p : List UInt8) : List UInt64 := List.zipWith (· + ·) st (rounds K (sch p 80) 80 (S8.of st)).list
/-- The words behind n pieces. -/
def eat (K : List UInt64) : Nat → List UInt64 → List UInt8 → List UInt64
  | 0, st, _ => st
  | n + 1, st, l => eat K n (mix K st (l.take 128)) (l.drop 128)
/-- What stands behind n bytes. -/
def padB (n : Nat) : List UInt8 := 128 :: List.replicate ((239 - n % 128) % 128) 0 ++ wordB 8 (UInt64.ofNat (n * 8 / 18446744073709551616)) ++ wordB 8 (UInt64.ofNat (n * 8 % 18446744073709551616))
def signsOf (st : List UInt64) : List UInt8 := st.flatMap (wordB 8)
/-- The sum of all bytes l. -/
def sumOf (K st : List UInt64) (l : List UInt8) : List UInt8 := signsOf (eat K ((l ++ padB l.length).length / 128) st (l ++ padB l.length))
end Go.Proofs.YtdfihpnmiiaflaaDoor
end
section
/- Words turned and shifted: rotated, shifted. -/
namespace Go.Proofs.YtdfihpnmiiaflaaDoor
open Go.RowKit
theorem ret_int {k : IntKind} {a b : Int} (h : a = b) : Ending.returned (.int k a) = .returned (.int k b) := by rw [h]
theorem val_int {k : IntKind} {a b : Int} (h : a = b) : Value.int k a = .int k b := by rw [h]
theorem wrapU (z : Int) : IntKind.u64.wrap z = z % 18446744073709551616 := by simp [IntKind.wrap, IntKind.signed, IntKind.bits]
theorem wrapN (n : Nat) : IntKind.u64.wrap (n : Int) = ((n % 18446744073709551616 : Nat) : Int) := by rw [wrapU]; simp
theorem rot_and : ∀ m : Fin 64, 1 ≤ m.val → bits BinOp.and IntKind.u64 (IntKind.u64.wrap (-(64 - (m.val : Int)))) 63 = (m.val : Int) := by decide +kernel
/-- Nothing changes. -/
def Sm (w w' : World) : Prop := w' = w
theorem Sm.stays : Stays Sm := ⟨fun _ => rfl, fun h k => k.trans h⟩
theorem toNat_of {n : Nat} (h : n < 18446744073709551616) : (UInt64.ofNat n).toNat = n := UInt64.toNat_ofNat_of_lt' h

theorem wrapI_neg' : ∀ m : Fin 64, IntKind.i64.wrap (-(m.val : Int)) = -(m.val : Int) := by decide +kernel
theorem wrapI_neg {a : Nat} (h : a ≤ 63) : IntKind.i64.wrap (-(a : Int)) = -(a : Int) := wrapI_neg' ⟨a, by omega⟩

set_option maxHeartbeats 400000 in
theorem rot_any (x : UInt64) (n : Int) (k : Nat) (hk : 1 ≤ k) (hk2 : k ≤ 63) (hn : n = -(k : Int)) (w : World) : Calls Tryd.prog 101 #[.int .u64 (x.toNat : Int), .int .i64 n] w fun e w' => e = .returned (.int .u64 ((rotr k x).toNat : Int)) ∧ w' = w := by
  have hx : x.toNat < 18446744073709551616 := x.toNat_lt
  obtain ⟨m, hm, hkm, hm1, hm2⟩ : ∃ m : Nat, n = -(64 - (m : Int)) ∧ 64 - k = m ∧ 1 ≤ m ∧ m ≤ 63 := ⟨64 - k, by omega, rfl, by omega, by omega⟩
  have ha := rot_and ⟨m, by omega⟩ hm1
  simp only at ha
  subst hm
  clear hn
  go_enter Tryd.func101, Tryd.ntmps101
  go_wp2
  go_ret
  refine ⟨ret_int ?_, rfl⟩
  unfold rotr
  rw [hkm, show 64 - m = k from by omega]
  have e1 : IntKind.u64.wrap ((x.toNat : Int) * 2 ^ m) = ((x.toNat * 2 ^ m % 18446744073709551616 : Nat) : Int) := by
    rw [← wrapN]; simp
  have e2 : ((x.toNat : Int) / 2 ^ k) = ((x.toNat / 2 ^ k : Nat) : Int) := by simp
  have b1 : x.toNat * 2 ^ m % 18446744073709551616 < 18446744073709551616 := Nat.mod_lt _ (by omega)
  have b2 : x.toNat / 2 ^ k < 18446744073709551616 := Nat.lt_of_le_of_lt (Nat.div_le_self _ _) hx
  have : x.toNat * 2 ^ m % 18446744073709551616 ||| x.toNat / 2 ^ k < 2 ^ 64 := Nat.or_lt_two_pow (by omega) (by omega)
  rw [e1, e2, u64_or_nat _ _ b1 b2, toNat_of this]

theorem xorU (x y : UInt64) : bits .xor .u64 (x.toNat : Int) (y.toNat : Int) = ((x ^^^ y).toNat : Int) := by rw [u64_xor_nat _ _ x.toNat_lt y.toNat_lt, UInt64.toNat_xor]
theorem andU (x y : UInt64) : bits .and .u64 (x.toNat : Int) (y.toNat : Int) = ((x &&& y).toNat : Int) := by rw [u64_and_nat _ _ x.toNat_lt y.toNat_lt, UInt64.toNat_and]
theorem orU (x y : UInt64) : bits .or .u64 (x.toNat : Int) (y.toNat : Int) = ((x ||| y).toNat : Int) := by rw [u64_or_nat _ _ x.toNat_lt y.toNat_lt, UInt64.toNat_or]
theorem addU (x y : UInt64) : IntKind.u64.wrap ((x.toNat : Int) + (y.toNat : Int)) = ((x + y).toNat : Int) := by
  rw [UInt64.toNat_add, ← wrapN]; simp
theorem divU (x : UInt64) (c : Nat) : ((x.toNat : Int) / 2 ^ c) = ((UInt64.ofNat (x.toNat / 2 ^ c)).toNat : Int) := by
  rw [toNat_of (Nat.lt_of_le_of_lt (Nat.div_le_self _ _) x.toNat_lt)]; simp

set_option maxHeartbeats 400000 in
theorem rot3_any (x : UInt64) (a b c : Nat) (ha : 1 ≤ a ∧ a ≤ 63) (hb : 1 ≤ b ∧ b ≤ 63) (hc : 1 ≤ c ∧ c ≤ 63) (w : World) :
    Calls Tryd.prog 97 #[.int .u64 (x.toNat : Int), .int .i64 a, .int .i64 b, .int .i64 c] w fun e w' => e = .returned (.int .u64 ((rot3 a b c x).toNat : Int)) ∧ w' = w := by
  have hx : x.toNat < 18446744073709551616 := x.toNat_lt
  go_enter Tryd.func97, Tryd.ntmps97
  go_wp2_with fail
  refine (rot_any x _ a ha.1 ha.2 rfl _).mono ?_; rintro e w1 ⟨rfl, rfl⟩
  go_wp2_with fail
  refine (rot_any x _ b hb.1 hb.2 rfl _).mono ?_; rintro e w1 ⟨rfl, rfl⟩
  go_wp2_with fail
  refine (rot_any x _ c hc.1 hc.2 rfl _).mono ?_; rintro e w1 ⟨rfl, rfl⟩
  go_wp2
  go_ret
  refine ⟨ret_int ?_, rfl⟩
  rw [xorU, xorU, rot3]

set_option maxHeartbeats 400000 in
theorem shf3_any (x : UInt64) (a b c : Nat) (ha : 1 ≤ a ∧ a ≤ 63) (hb : 1 ≤ b ∧ b ≤ 63) (hc : 1 ≤ c ∧ c ≤ 63) (w : World) :
    Calls Tryd.prog 100 #[.int .u64 (x.toNat : Int), .int .i64 a, .int .i64 b, .int .i64 c] w fun e w' => e = .returned (.int .u64 ((shf3 a b c x).toNat : Int)) ∧ Below w.heap.size w w' := by
  have hx : x.toNat < 18446744073709551616 := x.toNat_lt
  go_enter Tryd.func100, Tryd.ntmps100
  go_wp2_with fail
  have hR := Sm.stays
  refine reg_start Sm follows_mixed ?_
-- region 1 of f34: 14 operations, draws: true
  refine reg_take (v := ?_) hR 0 rfl (by kernel_rfl) (by kernel_rfl) (by kernel_rfl) (fun _ _ _ h => h) (by rfl) ?_ ?_
  rotate_left
  · intro W hW; go_simp; try with_reducible rfl
  try simp only [Act.put, List.getElem_toArray, List.getElem_cons_succ, List.getElem_cons_zero, List.setIfInBounds_toArray, List.set_cons_zero, List.set_cons_succ]
  refine reg_take (v := ?_) hR 1 rfl (by kernel_rfl) (by kernel_rfl) (by kernel_rfl) (fun _ _ _ h => h) (by rfl) ?_ ?_
  rotate_left
  · intro W hW; go_simp; try with_reducible rfl
  try simp only [Act.put, List.getElem_toArray, List.getElem_cons_succ, List.getElem_cons_zero, List.setIfInBounds_toArray, List.set_cons_zero, List.set_cons_succ]
  refine reg_take (v := ?_) hR 2 rfl (by kernel_rfl) (by kernel_rfl) (by kernel_rfl) (fun _ _ _ h => h) (by rfl) ?_ ?_
  rotate_left
  · intro W hW; go_simp; try with_reducible rfl
  try simp only [Act.put, List.getElem_toArray, List.getElem_cons_succ, List.getElem_cons_zero, List.setIfInBounds_toArray, List.set_cons_zero, List.set_cons_succ]
  refine reg_take (v := ?_) hR 4 rfl (by kernel_rfl) (by kernel_rfl) (by kernel_rfl) (fun _ _ _ h => h) (by rfl) ?_ ?_
  rotate_left
  · intro W hW; go_simp; try with_reducible rfl
  try simp only [Act.put, List.getElem_toArray, List.getElem_cons_succ, List.getElem_cons_zero, List.setIfInBounds_toArray, List.set_cons_zero, List.set_cons_succ]
  refine reg_take (v := ?_) hR 5 rfl (by kernel_rfl) (by kernel_rfl) (by kernel_rfl) (fun _ _ _ h => h) (by rfl) ?_ ?_
  rotate_left
  · intro W hW; go_simp; try with_reducible rfl
  try simp only [Act.put, List.getElem_toArray, List.getElem_cons_succ, List.getElem_cons_zero, List.setIfInBounds_toArray, List.set_cons_zero, List.set_cons_succ]
  refine reg_take (v := ?_) hR 6 rfl (by kernel_rfl) (by kernel_rfl) (by kernel_rfl) (fun _ _ _ h => h) (by rfl) ?_ ?_
  rotate_left
  · intro W hW; go_simp; try with_reducible rfl
  try simp only [Act.put, List.getElem_toArray, List.getElem_cons_succ, List.getElem_cons_zero, List.setIfInBounds_toArray, List.set_cons_zero, List.set_cons_succ]
  refine reg_take (v := ?_) hR 9 rfl (by kernel_rfl) (by kernel_rfl) (by kernel_rfl) (fun _ _ _ h => h) (by rfl) ?_ ?_
  rotate_left
  · intro W hW; go_simp; try with_reducible rfl
  try simp only [Act.put, List.getElem_toArray, List.getElem_cons_succ, List.getElem_cons_zero, List.setIfInBounds_toArray, List.set_cons_zero, List.set_cons_succ]
  refine reg_take (v := ?_) hR 10 rfl (by kernel_rfl) (by kernel_rfl) (by kernel_rfl) (fun _ _ _ h => h) (by rfl) ?_ ?_
  rotate_left
  · intro W hW; go_simp; try with_reducible rfl
  try simp only [Act.put, List.getElem_toArray, List.getElem_cons_succ, List.getElem_cons_zero, List.setIfInBounds_toArray, List.set_cons_zero, List.set_cons_succ]
  refine reg_take (v := ?_) hR 11 rfl (by kernel_rfl) (by kernel_rfl) (by kernel_rfl) (fun _ _ _ h => h) (by rfl) ?_ ?_
  rotate_left
  · intro W hW; go_simp; try with_reducible rfl
  try simp only [Act.put, List.getElem_toArray, List.getElem_cons_succ, List.getElem_cons_zero, List.setIfInBounds_toArray, List.set_cons_zero, List.set_cons_succ]
  -- STEP 3: Op.call { callee := Callee.value (Operand.func 101), args := #[t9, t11], argTypes := #[78, 3] }
  refine reg_step hR 3 (by kernel_rfl) rfl fun K hK => ?_
  try simp only [Act.put, List.getElem_toArray, List.getElem_cons_succ, List.getElem_cons_zero, List.setIfInBounds_toArray, List.set_cons_zero, List.set_cons_succ]
  go_simp
  refine (rot_any x _ a ha.1 ha.2 (wrapI_neg ha.2) _).mono ?_; rintro e w1 ⟨rfl, rfl⟩
  refine hK.out _ _ ?_ ?_
  · exact rfl
  clear hK K
  try simp only [Act.put, List.getElem_toArray, List.getElem_cons_succ, List.getElem_cons_zero, List.setIfInBounds_toArray, List.set_cons_zero, List.set_cons_succ]
  -- STEP 7: Op.call { callee := Callee.value (Operand.func 101), args := #[t13, t15], argTypes := #[78, 3] }
  refine reg_step hR 7 (by kernel_rfl) rfl fun K hK => ?_
  try simp only [Act.put, List.getElem_toArray, List.getElem_cons_succ, List.getElem_cons_zero, List.setIfInBounds_toArray, List.set_cons_zero, List.set_cons_succ]
  go_simp
  refine (rot_any x _ b hb.1 hb.2 (wrapI_neg hb.2) _).mono ?_; rintro e w1 ⟨rfl, rfl⟩
  refine hK.out _ _ ?_ ?_
  · exact rfl
  clear hK K
  try simp only [Act.put, List.getElem_toArray, List.getElem_cons_succ, List.getElem_cons_zero, List.setIfInBounds_toArray, List.set_cons_zero, List.set_cons_succ]
  refine reg_take (v := ?_) hR 8 rfl (by kernel_rfl) (by kernel_rfl) (by kernel_rfl) (fun _ _ _ h => h) (by rfl) ?_ ?_
  rotate_left
  · intro W hW; go_simp; try with_reducible rfl
  try simp only [Act.put, List.getElem_toArray, List.getElem_cons_succ, List.getElem_cons_zero, List.setIfInBounds_toArray, List.set_cons_zero, List.set_cons_succ]
  refine reg_take (v := ?_) hR 12 rfl (by kernel_rfl) (by kernel_rfl) (by kernel_rfl) (fun _ _ _ h => h) (by rfl) ?_ ?_
  rotate_left
  · intro W hW; go_simp; try with_reducible rfl
  try simp only [Act.put, List.getElem_toArray, List.getElem_cons_succ, List.getElem_cons_zero, List.setIfInBounds_toArray, List.set_cons_zero, List.set_cons_succ]
  refine reg_take (v := ?_) hR 13 rfl (by kernel_rfl) (by kernel_rfl) (by kernel_rfl) (fun _ _ _ h => h) (by rfl) ?_ ?_
  rotate_left
  · intro W hW; go_simp; try with_reducible rfl
  try simp only [Act.put, List.getElem_toArray, List.getElem_cons_succ, List.getElem_cons_zero, List.setIfInBounds_toArray, List.set_cons_zero, List.set_cons_succ]
  refine reg_done (by kernel_rfl) ?_ _

  go_wp2
  go_ret
  refine ⟨ret_int ?_, (Below.refl _ _).drew⟩
  rw [divU, xorU, xorU, shf3]
end Go.Proofs.YtdfihpnmiiaflaaDoor
end
