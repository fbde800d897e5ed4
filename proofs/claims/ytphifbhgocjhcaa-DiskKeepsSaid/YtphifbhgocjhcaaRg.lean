/- The document's own disk: New, Size, Read. -/
import Derived.Test.YtphifbhgocjhcaaRf
import Derived.Test.YtphifbhgocjhcaaFo
import Derived.Lib.SliceRun
import Derived.RegionTactic
import Derived.ChangeAlike
namespace Go.Proofs.Ytphifbhgocjhcaa
set_option linter.unusedSimpArgs false
set_option linter.unusedVariables false
open Go.RowKit Go.Maps

theorem info_sl : (Try.prog.info? 27).map (fun i => (i.zero, i.size, i.bytes)) = some (some (.slice none 0 0), 1, 24) := by kernel_rfl
theorem run_make50 (w : World) (n : Nat) (hn : n ≤ 16384) : (Instr.makeSlice 50 (.int .i64 (n : Int)) (.int .i64 (n : Int))).run Try.prog w = .ok (.slice (some ⟨w.heap.size, 0, none⟩) n n) (w.alloc (.cells (List.replicate n (Value.slice none 0 0)).toArray 27)) := by
  obtain ⟨i, hi, hz0, hz1, hz2⟩ := info_parts info_sl
  have hr := run_make (P := Try.prog) w 50 27 i _ Try.underlying50 hi hz0 .i64 .i64 n n (by omega) (Int.le_refl _) (by rw [hz2]; omega) (by omega)
  rw [hr, hz1, Nat.mul_one]
  have : madeCells (Value.slice none 0 0).cells n = (List.replicate n (Value.slice none 0 0)).toArray := by
    apply Array.ext
    · simp [size_madeCells]
    · intro j h1 h2
      rw [made_const (Value.slice none 0 0).cells (.slice none 0 0) (by simp [Value.cells]) (fun k hk => by simp [Value.cells] at hk; subst hk; rfl) n j h1]
      simp
  simp only [Int.toNat_natCast, this]

/-- The two blocks and the object, laid in whatever order. -/
theorem rk_new {w W : World} {n p b q : Nat} (h0 : 0 < n) (h1 : n ≤ 16384) (hp : W.heap[p]? = some (.cells #[.slice (some ⟨b, 0, none⟩) (n * 256) (n * 256), .slice (some ⟨q, 0, none⟩) n n] 52 (0, 0)))
    (hb : W.heap[b]? = some (.cells (cs8 (List.replicate (n * 256) 0)).toArray 5 (0, 0))) (hq : W.heap[q]? = some (.cells (List.replicate n (Value.slice none 0 0)).toArray 27 (0, 0)))
    (pb : p ≠ b) (pq : p ≠ q) (bq : b ≠ q) (lp : w.heap.size ≤ p) (lb : w.heap.size ≤ b) (lq : w.heap.size ≤ q) : Rk W w.heap.size p b q (zs (n * 256)) (noC n) := by
  have e : (noC n).length = n := by simp [noC]
  have e2 : (zs (n * 256)).length = n * 256 := by rw [List.length_replicate]
  refine ⟨by rw [e, e2]; exact hp, hb, ⟨_, hq, by rw [e, List.length_replicate], fun i v o hv ho => ?_⟩, by rw [e, e2, Nat.mul_comm], by rw [e]; exact h0, by rw [e]; exact h1, pb, pq, bq, lp, lb, lq⟩
  have h1 := List.eq_of_mem_replicate (List.mem_of_getElem? hv)
  have h2 : o = none := List.eq_of_mem_replicate (List.mem_of_getElem? ho)
  subst h1 h2
  rfl
theorem h3 (w : World) (a b c : Obj) : (((w.alloc a).alloc b).alloc c).heap[w.heap.size]? = some a ∧ (((w.alloc a).alloc b).alloc c).heap[w.heap.size + 1]? = some b ∧ (((w.alloc a).alloc b).alloc c).heap[w.heap.size + 2]? = some c := by
  have a1 : (w.alloc a).heap.size = w.heap.size + 1 := by simp
  have a2 : ((w.alloc a).alloc b).heap.size = w.heap.size + 2 := by simp
  refine ⟨?_, ?_, ?_⟩
  · rw [Below.heap_alloc _ _ _ (by rw [a2]; omega), Below.heap_alloc _ _ _ (by rw [a1]; omega)]
    exact heap_alloc_new w _
  · rw [Below.heap_alloc _ _ _ (by rw [a2]; omega), ← a1]
    exact heap_alloc_new _ _
  · rw [← a2]
    exact heap_alloc_new _ _
set_option maxRecDepth 100000 in
theorem rnew_ok (w : World) (n : Nat) (h0 : 0 < n) (h1 : n ≤ 16384) : Calls Try.prog 20 #[.int .i64 (n : Int)] w fun e w' => ∃ p b q, e = .returned (.tuple #[ptr p, .int .i64 0]) ∧ Rk w' w.heap.size p b q (zs (n * 256)) (noC n) ∧ Below w.heap.size w w' := by
  have hX : ∃ X, X = (.cells (cs8 (List.replicate (n * 256) 0)).toArray 5 : Obj) := ⟨_, rfl⟩
  obtain ⟨X, hX⟩ := hX
  have hY : ∃ Y, Y = (.cells (List.replicate n (Value.slice none 0 0)).toArray 27 : Obj) := ⟨_, rfl⟩
  obtain ⟨Y, hY⟩ := hY
  have hm8 : ∀ W, (Instr.makeSlice 27 (.int .i64 ((n : Int) * 256)) (.int .i64 ((n : Int) * 256))).run Try.prog W = .ok (.slice (some ⟨W.heap.size, 0, none⟩) (n * 256) (n * 256)) (W.alloc X) := fun W => by
    have := run_make8 W (n * 256) (by omega)
    rw [hX]
    simpa using this
  have hm50 : ∀ W, (Instr.makeSlice 50 (.int .i64 (n : Int)) (.int .i64 (n : Int))).run Try.prog W = .ok (.slice (some ⟨W.heap.size, 0, none⟩) n n) (W.alloc Y) := fun W => by rw [hY]; exact run_make50 W n h1
  have HX := Lib.hid hX
  have HY := Lib.hid hY
  clear hX hY
  go_enter Try.func20, Try.ntmps20
  go_wp2
  go_region
  all_goals (go_wp2; go_ret2)
  · exact ⟨w.heap.size + 2, _, _, rfl, rk_new (w := w) h0 h1 (h3 w X Y _).2.2 (by rw [← HX.out]; exact (h3 w X Y _).1) (by rw [← HY.out]; exact (h3 w X Y _).2.1) (by omega) (by omega) (by omega) (by omega) (Nat.le_refl _) (by omega), (bl_alloc (bl_alloc (bl_alloc (bl0 w) _) _) _).drew⟩
  · exact ⟨w.heap.size + 2, _, _, rfl, rk_new (w := w) h0 h1 (h3 w Y X _).2.2 (by rw [← HX.out]; exact (h3 w Y X _).2.1) (by rw [← HY.out]; exact (h3 w Y X _).1) (by omega) (by omega) (by omega) (by omega) (by omega) (Nat.le_refl _), (bl_alloc (bl_alloc (bl_alloc (bl0 w) _) _) _).drew⟩

section
variable {w : World} {lo p b q : Nat} {B : List UInt8} {C : Ca}
theorem rsize_any (h : Rk w lo p b q B C) : Calls Try.prog 38 #[ptr p] w fun e w' => e = .returned (.int .i64 (C.length : Int)) ∧ w' = w := by
  obtain ⟨c0, c1⟩ := h.c
  clear h
  go_enter Try.func38, Try.ntmps38
  go_wp2
  go_ret
  exact ⟨rfl, rfl⟩

theorem exec_slice_mid {d : Nat} {o : Oper} {a : Act} {w : World} (x y z : Operand) (ho : o.op = .slice 27 x (some y) (some z) none) {A : Option Addr} {n c k m : Nat} {i j : Int} (hx : a.eval x = .slice A n c) (hy : a.eval y = .int .i64 i) (hz : a.eval z = .int .i64 j) (hk : k ≤ m) (hc : m ≤ c) (hi : i = k) (hj : j = m) (hd : m - k = d) :
    (execOp a.eval o).run Try.prog w = .ok (.value (.slice (restAt A c k) d (c - k))) w := by
  subst hi
  subst hj
  subst hd
  have h2 : (m : Int) ≤ (c : Int) := by omega
  unfold execOp
  simp only [ho, hx, hy, hz, Option.map_some, Option.map_none]
  simp [Instr.sliceAt, Instr.slice, run_underlying Try.underlying27, Instr.sliceBounds, run_sliceBound, h2, Try.sizeOf5, restAt, go_sem]
  intro h; omega
theorem wpList_val {P : Program} {ops : Array Oper} {rest : List Oper} {o : Oper} {a : Act} {w : World} {Q : Exit → Act → World → Prop} (hgd : o.guard = none) {v : Value} (hrun : (execOp a.eval o).run P w = .ok (.value v) w)
    (h : wpList P ops Q rest (a.put o.dst v) w) : wpList P ops Q (o :: rest) a w := by
  refine wpList_plain hgd fun K hK => ?_
  unfold Oper.wp
  rw [hrun]
  exact hK _ _ h
theorem Row.sect (h : Row w b B) {i : Nat} (hi : 256 * i + 256 ≤ B.length) : Rd w w.heap.size (restAt (some ⟨b, 0, none⟩) B.length (i * 256)) 256 (B.length - i * 256) (sect B i) := by
  have h1 := h.rd.rest (k := i * 256) (by omega)
  have h2 := h1.take_ (k := 256) (by omega)
  rw [Nat.mul_comm] at h2
  have e : (B.drop (256 * i)).take 256 = Go.Proofs.Ytphifbhgocjhcaa.sect B i := rfl
  rw [e] at h2
  rw [Nat.mul_comm i 256]
  exact h2

theorem rread_bad (h : Rk w lo p b q B C) (at_ : Int) (hb : ¬ (0 ≤ at_ ∧ at_ < C.length)) : Calls Try.prog 21 #[ptr p, .int .i64 at_] w fun e w' => e = .returned (.tuple #[.slice none 0 0, .int .i64 2]) ∧ w' = w := by
  have HS := Lib.hid (rsize_any h)
  clear h
  by_cases h0 : at_ < 0
  · clear hb
    go_enter Try.func21, Try.ntmps21
    go_wp2
    go_ret2
    exact ⟨rfl, rfl⟩
  · have h1 : ¬ at_ < (C.length : Int) := by omega
    clear hb
    go_enter Try.func21, Try.ntmps21
    go_wp2_with (go_at_call 38; refine HS.out.mono ?_; rintro e w' ⟨rfl, rfl⟩)
    go_ret2
    exact ⟨rfl, rfl⟩
set_option maxRecDepth 100000 in
theorem rread_ok (h : Rk w lo p b q B C) (i : Nat) (hi : i < C.length) :
    Calls Try.prog 21 #[ptr p, .int .i64 (i : Int)] w fun e w' => ∃ A c, e = .returned (.tuple #[.slice A 256 c, .int .i64 0]) ∧ Rd w' w'.heap.size A 256 c (look B C i) ∧ Below w.heap.size w w' := by
  have HS := Lib.hid (rsize_any h)
  have h1 := h.h1
  have hbd : 256 * i + 256 ≤ B.length := by have := h.hB; omega
  have hBl : B.length ≤ 4194304 := by have := h.hB; omega
  obtain ⟨c0, c1⟩ := h.c
  obtain ⟨v, cv, hv⟩ := h.at_ hi
  have HR := Lib.hid h
  have hlt := h.plt
  have hqt := h.qlt
  have n0 : ¬ ((i : Int) < 0) := by omega
  have n1 : (i : Int) < (C.length : Int) := by omega
  cases hg : C.getD i none with
  | some x =>
    rw [hg] at hv
    obtain ⟨hx, ad, c, rfl, hc, g1, g2, g3, g4, g5, g6⟩ := hv
    have HX : Hid (Rd w w.heap.size (some ad) 256 c x) := Lib.hid ⟨hx, hc, fun _ => ⟨ad, rfl, g2, g6⟩⟩
    rw [look_some hg]
    clear h hg g1 g2 g3 g4 g5 g6 hc
    go_enter Try.func21, Try.ntmps21
    go_wp2_with (first | (go_at_call 38; refine HS.out.mono ?_; rintro e w' ⟨rfl, rfl⟩) | (at_builtin; refine wpList_app rfl _ _ rfl rfl (Ow.lit _ #[] [] rfl (by simp)) rfl (HX.out.below ((Below.refl _ _).alloc (Nat.le_refl _) _)) (by simp) (by simp) ?_; intro v2 w2 ho2 hg2 hv2))
    go_ret2
    obtain ⟨A2, c2, rfl, hr2⟩ := ho2.rdN (n := 256) (by simpa using hx)
    exact ⟨A2, c2, rfl, by simpa using hr2, ((Below.refl _ _).alloc (Nat.le_refl _) _).grown hg2 (by simp) (fun g hg => (World.ownsRow.lt (Ow.lit _ #[] [] rfl (by simp)) g hg).1)⟩
  | none =>
    rw [hg] at hv
    obtain rfl : v = .slice none 0 0 := hv
    have HX := Lib.hid (h.hb.sect hbd)
    have hx := sect_len hbd
    rw [look_none hg]
    clear h hg
    go_enter Try.func21, Try.ntmps21
    go_wp2_with (first | (go_at_call 38; refine HS.out.mono ?_; rintro e w' ⟨rfl, rfl⟩) | (refine wpList_val rfl (exec_slice_mid _ _ _ rfl rfl rfl rfl (k := i * 256) (m := (i + 1) * 256) (d := 256) (by omega) (by omega) (by omega) (by omega) (by omega)) ?_) | (at_builtin; refine wpList_app (n := 256) (A := restAt (some ⟨b, 0, none⟩) B.length (i * 256)) (c := B.length - i * 256) (l := sect B i) rfl _ _ rfl rfl (Ow.lit _ #[] [] rfl (by simp)) rfl (HX.out.below ((Below.refl _ _).alloc (Nat.le_refl _) _)) (by simp) (by simp) ?_; intro v2 w2 ho2 hg2 hv2))
    go_ret2
    obtain ⟨A2, c2, rfl, hr2⟩ := ho2.rdN (n := 256) (by simpa using hx)
    exact ⟨A2, c2, rfl, by simpa using hr2, ((Below.refl _ _).alloc (Nat.le_refl _) _).grown hg2 (by simp) (fun g hg => (World.ownsRow.lt (Ow.lit _ #[] [] rfl (by simp)) g hg).1)⟩
end
end Go.Proofs.Ytphifbhgocjhcaa
