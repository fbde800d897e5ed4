/- Texts of this claim, one behind the other: JWr, JFh, JAq. -/
import Derived.Test.YtgpfognglpfmoaaGreatDoorZ23
import Derived.Test.YtgpfognglpfmoaaGreatDoorZ22
set_option linter.unusedSimpArgs false
set_option linter.unusedVariables false
section
/- A journal: write. -/
namespace Go.Proofs.YtgpfognglpfmoaaGreatDoor
set_option maxRecDepth 8192
set_option linter.unusedSimpArgs false
set_option linter.unusedVariables false
open Go.RowKit Go.Shelf

attribute [local go_sem] Oper.semAt_some

/-- An operation that yields a value. -/
theorem wp_val1 {o : Oper} {a : Act} {w : World} {K : Act → World → Prop} {Q : Exit → Act → World → Prop} {v : Value} (h : (execOp a.eval o).run Tryz.prog w = .ok (.value v) w) (hk : K (a.put o.dst v) w) : o.wp Tryz.prog a w K Q := by
  unfold Oper.wp
  rw [h]
  exact hk
/-- Sector k of bytes that are read. -/
theorem Rd.sector {w : World} {top N c k : Nat} {ad : Addr} {b : List UInt8} (h : Rd w top (some ad) N c b) (hk : (k + 1) * 256 ≤ N) : Rd w top (some (ad.add (k * 256))) 256 256 (sect b k) := by
  refine ⟨sect_len (by rw [h.1]; omega), Nat.le_refl _, fun _ => ⟨_, rfl, ?_, ?_⟩⟩
  · obtain ⟨ad', e, ht, _⟩ := h.2.2 (by omega)
    injection e with e
    subst e
    rw [add_block]
    exact ht
  · intro j u hj
    obtain ⟨ad', e, ht, hc⟩ := h.2.2 (by omega)
    injection e with e
    subst e
    have hlt : j < 256 := by
      have := (List.getElem?_eq_some_iff.1 hj).1
      rw [sect_len (by rw [h.1]; omega)] at this
      exact this
    rw [sect, List.getElem?_take, if_pos hlt, List.getElem?_drop] at hj
    have := hc _ u hj
    rw [Addr.add_add]
    rwa [show k * 256 + j = 256 * k + j by omega]

theorem results_c1 {fn : Func} {q : Tmp} {ty : TypeId} (h : fn.results = #[.cell q ty]) {tmps : Array Value} {w : World} {ad : Addr} {v : Value} (hq : tmps.getD q undef = .pointer (some ad)) (hag : ∀ w, (isAgg ty).run Tryz.prog w = .ok false w) (hc : w.cell? ad = some v) :
    (results fn tmps).run Tryz.prog w = .ok v w := by
  have hq' : tmps[q]?.getD undef = .pointer (some ad) := by simpa using hq
  have hl : (loadVar ty ad).run Tryz.prog w = .ok v w := by simp [loadVar, Sem.run_bind, hag, hc, go_sem]
  simp [results, h, hq', asAddr, hl]
theorem Dk.grow {w w' : World} {p s m : Nat} {B : List UInt8} {C : Ca} {row : Option Nat} (h : Dk w p s m B C) (hg : w.grownBy w' row) (hn : ∀ r, row = some r → p ≠ r ∧ s ≠ r ∧ m ≠ r) : Dk w' p s m B C :=
  h.of (hg.block _ h.plt (fun e => (hn p e.symm).1 rfl)) (hg.block _ h.slt (fun e => (hn s e.symm).2.1 rfl)) (hg.block _ h.mlt (fun e => (hn m e.symm).2.2 rfl))

section
variable {w : World} {J p s m area L syn E : Nat} {B : List UInt8} {C : Ca} {v : Value} {lr n : Int} {ch : List UInt8}
set_option maxHeartbeats 3200000 in
theorem write_j (hj : Bk w J (jc p area L syn)) (hl : Bk w L (lg (E : Int) v lr n ch)) (hd : Dk w p s m B C) (hE : E ≤ 9223372036854775807) (ha : area ≤ 256) (at_ q : Nat) (hq : 1 ≤ q) (hs : 2 + E % 2 * area + at_ + q ≤ C.length)
    {ad : Addr} {c : Nat} {b : List UInt8} (hr : Rd w w.heap.size (some ad) (q * 256) c b) (hc : c ≤ 9223372036854775807) (hm : ad.block ≠ m ∧ J ≠ m) :
    Calls Tryz.prog 51 #[pt0 J, .int .i64 (at_ : Int), .slice (some ad) (q * 256) c] w fun e w' => e = .returned (.int .i64 0) ∧ Dk w' p s m B (wr C (2 + E % 2 * area + at_) b q) ∧ Kp (fun k => k = m) w w' := by
  have HF := Lib.hid (fun W => firstSector_bl E hE area ha W)
  generalize hf : 2 + E % 2 * area = f at *
  clear hf
  have hC16 := hd.h1
  have hb3 : Below w.heap.size w (((w.alloc (.cells #[pt0 J] 26)).alloc (.cells #[.int .i64 (at_ : Int)] 3)).alloc (.cells #[.int .i64 0] 23)) := bl_alloc (bl_alloc (bl_alloc (bl0 w) _) _) _
  have H01 := Lib.hid (((Bk.new w [pt0 J] 26).old (.cells #[.int .i64 (at_ : Int)] 3)).old (.cells #[.int .i64 0] 23))
  have HA1 : Hid (Bk (((w.alloc (.cells #[pt0 J] 26)).alloc (.cells #[.int .i64 (at_ : Int)] 3)).alloc (.cells #[.int .i64 0] 23)) (w.heap.size + 1) [.int .i64 (at_ : Int)]) := Lib.hid (by
    have := (Bk.new (w.alloc (.cells #[pt0 J] 26)) [.int .i64 (at_ : Int)] 3).old (.cells #[.int .i64 0] 23)
    simpa using this)
  have HZ1 : Hid (Bk (((w.alloc (.cells #[pt0 J] 26)).alloc (.cells #[.int .i64 (at_ : Int)] 3)).alloc (.cells #[.int .i64 0] 23)) (w.heap.size + 1 + 1) [.int .i64 0]) := Lib.hid (by
    have := Bk.new ((w.alloc (.cells #[pt0 J] 26)).alloc (.cells #[.int .i64 (at_ : Int)] 3)) [.int .i64 0] 23
    simpa using this)
  have HJ1 := Lib.hid (hj.keep hb3)
  have HL1 := Lib.hid (hl.keep hb3)
  have HD1 := Lib.hid (hd.old hb3)
  have HR1 := Lib.hid ((hr.below hb3).more hb3.size)
  have HB1 := Lib.hid hb3
  have HPL := Lib.hid (show p < w.heap.size ∧ s < w.heap.size ∧ m < w.heap.size ∧ J < w.heap.size ∧ L < w.heap.size from ⟨hd.plt, hd.slt, hd.mlt, hj.lt, hl.lt⟩)
  have hadlt : ad.block < w.heap.size := by
    obtain ⟨ad', e, ht, _⟩ := hr.2.2 (by omega)
    injection e with e
    subst e
    exact ht
  have HAL := Lib.hid hadlt
  have HM := Lib.hid hm
  have hqc := hr.cap
  have HRB := Lib.hid (show ∀ k, k < q → ∀ {W : World}, Rd W w.heap.size (some ad) (q * 256) c b → Rd W w.heap.size (some (ad.add (k * 256))) 256 256 (sect b k) from fun k hk W h => h.sector (Nat.mul_le_mul_right _ (by omega)))
  have HR0 := Lib.hid hr
  clear hj hl hd hb3 hr hadlt hm
  refine (callsIn_wide (n := 8)).1 ?_
  refine callsIn_of_wp_marks Tryz.func51 rfl trivial ?_ rfl
  simp only [Tryz.ntmps51, List.size_toArray, List.length_cons, List.length_nil, Nat.reduceAdd, Nat.reduceSub, Array.replicate_succ, Array.replicate_zero, List.push_toArray, List.append_toArray, List.nil_append, List.cons_append]
  refine wpIn_wide.2 ?_
  go_wp2
  generalize ((w.alloc (.cells #[pt0 J] 26)).alloc (.cells #[.int .i64 (at_ : Int)] 3)).alloc (.cells #[.int .i64 0] 23) = w1 at *
  obtain ⟨b0, hb0⟩ : ∃ b0, b0 = w.heap.size := ⟨_, rfl⟩
  rw [← hb0] at H01 HA1 HZ1 HPL HAL
  simp only [← hb0]
  have n0 := Lib.hid (show ¬ b0 = b0 + 1 by omega)
  have nJ := Lib.hid (show ¬ J = b0 + 1 by have := HPL.out; omega)
  have nL := Lib.hid (show ¬ L = b0 + 1 by have := HPL.out; omega)
  have HB0 := Lib.hid hb0
  clear hb0
  refine region_meetQ (fun a0 a' w' => a' = puts a0 [(9, .int .i64 (at_ : Int)), (10, pt0 J), (11, pt0 J), (12, .pointer (some ⟨J, 2, none⟩)), (13, pt0 L), (14, pt0 L), (15, pt0 L), (16, .int .u64 (E : Int)), (17, pt0 J), (18, pt0 J), (19, .pointer (some ⟨J, 1, none⟩)), (20, .int .i64 (area : Int)), (21, .int .i64 (f : Int)), (22, .int .i64 ((at_ : Int) + (f : Int)))] ∧ Hid (Bk w' (b0 + 1) [.int .i64 ((at_ : Int) + (f : Int))]) ∧ Hid (Kp (fun x => x = b0 + 1) w1 w')) ?_ ?_
  · have hR := Kp.stays (fun x => x = b0 + 1)
    refine reg_start (Kp (fun x => x = b0 + 1)) follows_mixed ?_
    have H0 := Lib.hid H01.out.drew
    have HA := Lib.hid HA1.out.drew
    have HJ := Lib.hid HJ1.out.drew
    have HL := Lib.hid HL1.out.drew
    have HK := Lib.hid (show Kp (fun x => x = b0 + 1) w1 w1.drew from Kp.of_old (Below.refl w1.heap.size w1).drew)
    generalize w1.drew = u0 at H0 HA HJ HL HK ⊢
    refine reg_take (v := pt0 J) hR 1 rfl (by kernel_rfl) (by kernel_rfl) (by kernel_rfl) (fun _ _ _ h => by cases h.1) (by rfl) ?_ ?_
    · intro W hW; exact exec_load_cell 26 _ rfl Tryz.isAgg26 rfl ((H0.out.kp hW n0.out).cell rfl)
    try simp only [Act.put, List.getElem_toArray, List.getElem_cons_succ, List.getElem_cons_zero, List.setIfInBounds_toArray, List.set_cons_zero, List.set_cons_succ]
    refine reg_take (v := pt0 J) hR 2 rfl (by kernel_rfl) (by kernel_rfl) (by kernel_rfl) (fun _ _ _ h => by cases h.1) (by rfl) ?_ ?_
    · intro W hW; go_simp; try with_reducible rfl
    try simp only [Act.put, List.getElem_toArray, List.getElem_cons_succ, List.getElem_cons_zero, List.setIfInBounds_toArray, List.set_cons_zero, List.set_cons_succ]
    refine reg_take (v := .pointer (some ⟨J, 2, none⟩)) hR 3 rfl (by kernel_rfl) (by kernel_rfl) (by kernel_rfl) (fun _ _ _ h => by cases h.1) (by rfl) ?_ ?_
    · intro W hW; go_simp; try with_reducible rfl
    try simp only [Act.put, List.getElem_toArray, List.getElem_cons_succ, List.getElem_cons_zero, List.setIfInBounds_toArray, List.set_cons_zero, List.set_cons_succ]
    refine reg_take (v := pt0 L) hR 4 rfl (by kernel_rfl) (by kernel_rfl) (by kernel_rfl) (fun _ _ _ h => by cases h.1) (by rfl) ?_ ?_
    · intro W hW; exact exec_load_cell 81 _ rfl Tryz.isAgg81 rfl ((HJ.out.kp hW nJ.out).cell rfl)
    try simp only [Act.put, List.getElem_toArray, List.getElem_cons_succ, List.getElem_cons_zero, List.setIfInBounds_toArray, List.set_cons_zero, List.set_cons_succ]
    refine reg_take (v := pt0 L) hR 5 rfl (by kernel_rfl) (by kernel_rfl) (by kernel_rfl) (fun _ _ _ h => by cases h.1) (by rfl) ?_ ?_
    · intro W hW; go_simp; try with_reducible rfl
    try simp only [Act.put, List.getElem_toArray, List.getElem_cons_succ, List.getElem_cons_zero, List.setIfInBounds_toArray, List.set_cons_zero, List.set_cons_succ]
    refine reg_take (v := pt0 L) hR 6 rfl (by kernel_rfl) (by kernel_rfl) (by kernel_rfl) (fun _ _ _ h => by cases h.1) (by rfl) ?_ ?_
    · intro W hW; go_simp; try with_reducible rfl
    try simp only [Act.put, List.getElem_toArray, List.getElem_cons_succ, List.getElem_cons_zero, List.setIfInBounds_toArray, List.set_cons_zero, List.set_cons_succ]
    refine reg_take (v := .int .u64 (E : Int)) hR 7 rfl (by kernel_rfl) (by kernel_rfl) (by kernel_rfl) (fun _ _ _ h => by cases h.1) (by rfl) ?_ ?_
    · intro W hW; exact exec_load_cell 40 _ rfl Tryz.isAgg40 rfl ((HL.out.kp hW nL.out).cell rfl)
    try simp only [Act.put, List.getElem_toArray, List.getElem_cons_succ, List.getElem_cons_zero, List.setIfInBounds_toArray, List.set_cons_zero, List.set_cons_succ]
    refine reg_take (v := pt0 J) hR 8 rfl (by kernel_rfl) (by kernel_rfl) (by kernel_rfl) (fun _ _ _ h => by cases h.1) (by rfl) ?_ ?_
    · intro W hW; exact exec_load_cell 26 _ rfl Tryz.isAgg26 rfl ((H0.out.kp hW n0.out).cell rfl)
    try simp only [Act.put, List.getElem_toArray, List.getElem_cons_succ, List.getElem_cons_zero, List.setIfInBounds_toArray, List.set_cons_zero, List.set_cons_succ]
    refine reg_take (v := pt0 J) hR 9 rfl (by kernel_rfl) (by kernel_rfl) (by kernel_rfl) (fun _ _ _ h => by cases h.1) (by rfl) ?_ ?_
    · intro W hW; go_simp; try with_reducible rfl
    try simp only [Act.put, List.getElem_toArray, List.getElem_cons_succ, List.getElem_cons_zero, List.setIfInBounds_toArray, List.set_cons_zero, List.set_cons_succ]
    refine reg_take (v := .pointer (some ⟨J, 1, none⟩)) hR 10 rfl (by kernel_rfl) (by kernel_rfl) (by kernel_rfl) (fun _ _ _ h => by cases h.1) (by rfl) ?_ ?_
    · intro W hW; go_simp; try with_reducible rfl
    try simp only [Act.put, List.getElem_toArray, List.getElem_cons_succ, List.getElem_cons_zero, List.setIfInBounds_toArray, List.set_cons_zero, List.set_cons_succ]
    refine reg_take (v := .int .i64 (area : Int)) hR 11 rfl (by kernel_rfl) (by kernel_rfl) (by kernel_rfl) (fun _ _ _ h => by cases h.1) (by rfl) ?_ ?_
    · intro W hW; exact exec_load_cell 3 _ rfl Tryz.isAgg3 rfl ((HJ.out.kp hW nJ.out).cell rfl)
    try simp only [Act.put, List.getElem_toArray, List.getElem_cons_succ, List.getElem_cons_zero, List.setIfInBounds_toArray, List.set_cons_zero, List.set_cons_succ]
    refine reg_fork (rs := [0, 12]) hR (by kernel_rfl) (by simp) ?_
    intro i hi; simp only [List.mem_cons, List.not_mem_nil, or_false] at hi
    rcases hi with rfl | rfl
    · refine ⟨_, rfl, fun K hK => ?_⟩
      try simp only [Act.put, List.getElem_toArray, List.getElem_cons_succ, List.getElem_cons_zero, List.setIfInBounds_toArray, List.set_cons_zero, List.set_cons_succ]
      rw [if_pos (by rfl)]
      refine wp_val1 (v := .int .i64 (at_ : Int)) (exec_load_cell 3 _ rfl Tryz.isAgg3 rfl (HA.out.cell rfl)) ?_
      refine hK.out _ _ (hR.refl _) ?_
      clear hK K
      try simp only [Act.put, List.getElem_toArray, List.getElem_cons_succ, List.getElem_cons_zero, List.setIfInBounds_toArray, List.set_cons_zero, List.set_cons_succ]
      refine reg_step hR 12 (by kernel_rfl) rfl fun K hK => ?_
      try simp only [Act.put, List.getElem_toArray, List.getElem_cons_succ, List.getElem_cons_zero, List.setIfInBounds_toArray, List.set_cons_zero, List.set_cons_succ]
      rw [if_pos (by rfl)]
      go_simp
      refine (HF.out u0).mono ?_; rintro e u1 ⟨rfl, hb⟩
      refine hK.out _ _ (show Kp (fun x => x = b0 + 1) _ _ from Kp.of_old hb) ?_
      clear hK K
      have HA := Lib.hid (HA.out.keep hb)
      have HK := Lib.hid (hR.trans HK.out (show Kp (fun x => x = b0 + 1) _ _ from Kp.of_old hb))
      clear hb
      try simp only [Act.put, List.getElem_toArray, List.getElem_cons_succ, List.getElem_cons_zero, List.setIfInBounds_toArray, List.set_cons_zero, List.set_cons_succ]
      refine reg_take (v := .int .i64 ((at_ : Int) + (f : Int))) hR 13 rfl (by kernel_rfl) (by kernel_rfl) (by kernel_rfl) (fun _ _ _ h => by cases h.1) (by rfl) ?_ ?_
      · intro W hW; go_simp; try rw [IntWalk.i64_in _ (by omega)]
      try simp only [Act.put, List.getElem_toArray, List.getElem_cons_succ, List.getElem_cons_zero, List.setIfInBounds_toArray, List.set_cons_zero, List.set_cons_succ]
      refine reg_step hR 14 (by kernel_rfl) rfl fun K hK => ?_
      try simp only [Act.put, List.getElem_toArray, List.getElem_cons_succ, List.getElem_cons_zero, List.setIfInBounds_toArray, List.set_cons_zero, List.set_cons_succ]
      rw [if_pos (by rfl)]
      refine wp_store1 3 _ _ rfl (b0 + 1) rfl ((at_ : Int) + (f : Int)) (.int .i64 (at_ : Int)) rfl HA.out Tryz.sizeOf3 ?_
      have hst := kp_setRow (may := fun x => x = b0 + 1) u1 (b0 + 1) ([.int .i64 ((at_ : Int) + (f : Int))] : List Value).toArray rfl
      refine hK.out _ _ hst ?_
      clear hK K
      have HA := Lib.hid (HA.out.setRow ([.int .i64 ((at_ : Int) + (f : Int))] : List Value))
      have HK := Lib.hid (hR.trans HK.out hst)
      clear hst
      try simp only [Act.put, List.getElem_toArray, List.getElem_cons_succ, List.getElem_cons_zero, List.setIfInBounds_toArray, List.set_cons_zero, List.set_cons_succ]
      refine reg_done (by kernel_rfl) ?_ _
      refine ⟨rfl, ?_, HA, HK⟩
      simp only [puts, List.foldl_cons, List.foldl_nil, Act.put, List.getElem_toArray, List.getElem_cons_succ, List.getElem_cons_zero, List.setIfInBounds_toArray, List.set_cons_zero, List.set_cons_succ]
    · refine ⟨_, rfl, fun K hK => ?_⟩
      try simp only [Act.put, List.getElem_toArray, List.getElem_cons_succ, List.getElem_cons_zero, List.setIfInBounds_toArray, List.set_cons_zero, List.set_cons_succ]
      rw [if_pos (by rfl)]
      go_simp
      refine (HF.out u0).mono ?_; rintro e u1 ⟨rfl, hb⟩
      refine hK.out _ _ (show Kp (fun x => x = b0 + 1) _ _ from Kp.of_old hb) ?_
      clear hK K
      have HA := Lib.hid (HA.out.keep hb)
      have HK := Lib.hid (hR.trans HK.out (show Kp (fun x => x = b0 + 1) _ _ from Kp.of_old hb))
      clear hb
      try simp only [Act.put, List.getElem_toArray, List.getElem_cons_succ, List.getElem_cons_zero, List.setIfInBounds_toArray, List.set_cons_zero, List.set_cons_succ]
      refine reg_step hR 0 (by kernel_rfl) rfl fun K hK => ?_
      try simp only [Act.put, List.getElem_toArray, List.getElem_cons_succ, List.getElem_cons_zero, List.setIfInBounds_toArray, List.set_cons_zero, List.set_cons_succ]
      rw [if_pos (by rfl)]
      refine wp_val1 (v := .int .i64 (at_ : Int)) (exec_load_cell 3 _ rfl Tryz.isAgg3 rfl (HA.out.cell rfl)) ?_
      refine hK.out _ _ (hR.refl _) ?_
      clear hK K
      try simp only [Act.put, List.getElem_toArray, List.getElem_cons_succ, List.getElem_cons_zero, List.setIfInBounds_toArray, List.set_cons_zero, List.set_cons_succ]
      refine reg_take (v := .int .i64 ((at_ : Int) + (f : Int))) hR 13 rfl (by kernel_rfl) (by kernel_rfl) (by kernel_rfl) (fun _ _ _ h => by cases h.1) (by rfl) ?_ ?_
      · intro W hW; go_simp; try rw [IntWalk.i64_in _ (by omega)]
      try simp only [Act.put, List.getElem_toArray, List.getElem_cons_succ, List.getElem_cons_zero, List.setIfInBounds_toArray, List.set_cons_zero, List.set_cons_succ]
      refine reg_step hR 14 (by kernel_rfl) rfl fun K hK => ?_
      try simp only [Act.put, List.getElem_toArray, List.getElem_cons_succ, List.getElem_cons_zero, List.setIfInBounds_toArray, List.set_cons_zero, List.set_cons_succ]
      rw [if_pos (by rfl)]
      refine wp_store1 3 _ _ rfl (b0 + 1) rfl ((at_ : Int) + (f : Int)) (.int .i64 (at_ : Int)) rfl HA.out Tryz.sizeOf3 ?_
      have hst := kp_setRow (may := fun x => x = b0 + 1) u1 (b0 + 1) ([.int .i64 ((at_ : Int) + (f : Int))] : List Value).toArray rfl
      refine hK.out _ _ hst ?_
      clear hK K
      have HA := Lib.hid (HA.out.setRow ([.int .i64 ((at_ : Int) + (f : Int))] : List Value))
      have HK := Lib.hid (hR.trans HK.out hst)
      clear hst
      try simp only [Act.put, List.getElem_toArray, List.getElem_cons_succ, List.getElem_cons_zero, List.setIfInBounds_toArray, List.set_cons_zero, List.set_cons_succ]
      refine reg_done (by kernel_rfl) ?_ _
      refine ⟨rfl, ?_, HA, HK⟩
      simp only [puts, List.foldl_cons, List.foldl_nil, Act.put, List.getElem_toArray, List.getElem_cons_succ, List.getElem_cons_zero, List.setIfInBounds_toArray, List.set_cons_zero, List.set_cons_succ]
  · rintro a' w4 ⟨rfl, HA4, HK4⟩
    simp only [puts, List.foldl_cons, List.foldl_nil, Act.put, List.getElem_toArray, List.getElem_cons_succ, List.getElem_cons_zero, List.setIfInBounds_toArray, List.set_cons_zero, List.set_cons_succ]
    have hne : ∀ x, x < b0 → ¬ x = b0 + 1 := fun x hx => by omega
    have HJ4 := Lib.hid (HJ1.out.kp HK4.out (hne J (by have := HPL.out; omega)))
    have HD4 := Lib.hid (HD1.out.kp HK4.out (hne p (by have := HPL.out; omega)) (hne s (by have := HPL.out; omega)) (hne m (by have := HPL.out; omega)))
    have H04 := Lib.hid (H01.out.kp HK4.out n0.out)
    have HZ4 := Lib.hid (HZ1.out.kp HK4.out (show ¬ b0 + 1 + 1 = b0 + 1 by omega))
    have HR4 : Hid (Rd w4 w.heap.size (some ad) (q * 256) c b) := Lib.hid ((HR0.out.below HB1.out).kpNe HK4.out HB1.out.size (fun ad' e e2 => by injection e with e; subst e; exact hne _ HAL.out e2))
    have HB4 : Hid (Kp (fun x => x = b0 + 1) w w4) := Lib.hid ((Kp.of_old (may := fun x => x = b0 + 1) HB1.out).via HK4.out (fun j _ e => e))
    have HA5 : Hid (Bk w4 (b0 + 1) [.int .i64 ((f + at_ : Nat) : Int)]) := Lib.hid (by
      have := HA4.out
      rwa [show (at_ : Int) + (f : Int) = ((f + at_ : Nat) : Int) by omega] at this)
    generalize hgg : f + at_ = g at *
    have HGG := Lib.hid hgg
    clear hgg
    clear HJ1 HD1 H01 HZ1 HR1 HR0 HL1 HA1 HA4 HK4 hne HF n0 nJ nL
    go_wp2_with fail
    refine (chunk_call (some ad) (q * 256) c w4).mono ?_
    rintro e w5 ⟨rfl, rfl⟩
    have hbl := bl_alloc (bl_alloc (bl0 w4) (.cells #[.slice (some ad) (q * 256) c] 31)) (.cells #[.int .i64 256] 3)
    have HJ5 := Lib.hid (HJ4.out.keep hbl)
    have HD5 := Lib.hid (HD4.out.old hbl)
    have H05 := Lib.hid (H04.out.keep hbl)
    have HZ5 := Lib.hid (HZ4.out.keep hbl)
    have HA6 := Lib.hid (HA5.out.keep hbl)
    have HR5 := Lib.hid (HR4.out.below (hbl.mono HB4.out.size))
    have HB5 : Hid (Kp (fun x => x = b0 + 1) w ((w4.alloc (.cells #[.slice (some ad) (q * 256) c] 31)).alloc (.cells #[.int .i64 256] 3))) := Lib.hid (HB4.out.via (Kp.of_old (may := fun x => x = b0 + 1) hbl) (fun j _ e => e))
    have HC1 := Lib.hid ((Bk.new w4 [.slice (some ad) (q * 256) c] 31).old (.cells #[.int .i64 256] 3))
    have HC2 : Hid (Bk ((w4.alloc (.cells #[.slice (some ad) (q * 256) c] 31)).alloc (.cells #[.int .i64 256] 3)) (w4.heap.size + 1) [.int .i64 256]) := Lib.hid (by
      have := Bk.new (w4.alloc (.cells #[.slice (some ad) (q * 256) c] 31)) [.int .i64 256] 3
      simpa using this)
    have HGA := Lib.hid HA5.out.lt
    clear HJ4 HD4 H04 HZ4 HR4 HA5 HB4 hbl
    go_wp2_with fail
    generalize (w4.alloc (.cells #[.slice (some ad) (q * 256) c] 31)).alloc (.cells #[.int .i64 256] 3) = w5 at *
    refine (wpIn_wide (n := 8)).1 ?_
    refine range_chunk 7 (by omega) (b1 := w4.heap.size) (b2 := w4.heap.size + 1) (ad := ad) (q := q) (c := c) (by omega) hqc hc rfl HC1.out HC2.out
      (fun k W => Bk W (b0 + 1) [.int .i64 ((g + k : Nat) : Int)] ∧ Dk W p s m B (wr C g b k) ∧ Kp (fun x => x = m ∨ x = b0 + 1) w5 W) ?_ ?_ ?assign ?body ?done
    · intro k W W' row ⟨h1, h2, h3⟩ hg hr
      have hn5 : ∀ x, x < w5.heap.size → row ≠ some x := fun x hx e => by have := (hr x e).1; omega
      refine ⟨h1.grow hg (hn5 _ HA6.out.lt), h2.grow hg (fun r e => ?_), ⟨hg.os.trans h3.os, hg.tape.trans h3.tape, hg.output.trans h3.output, Nat.le_trans h3.size hg.size, fun x hx hm => (hg.block x (Nat.lt_of_lt_of_le hx h3.size) (fun e => hn5 x hx e.symm)).trans (h3.block x hx hm)⟩⟩
      have := (hr r e).1
      have := HPL.out
      have := HC2.out.lt
      have := HGA.out
      omega
    · exact ⟨HA6.out, HD5.out, (Kp.stays _).refl _⟩
    case assign =>
      intro l k W K hK
      gi_wp2
      exact hK
    case body =>
      rintro l k W ⟨hk1, hk2, hk3⟩ hlt
      have hpl := HPL.out
      have HDW := Lib.hid hk2
      have hm0 := HM.out
      have c1 : W.cell? ⟨b0, 0, none⟩ = some (pt0 J) := (H05.out.kp hk3 (by omega)).cell rfl
      have cJ : W.cell? ⟨J, 0, none⟩ = some (ptr p) := (HJ5.out.kp hk3 (by omega)).cell rfl
      have cq : W.cell? ⟨b0 + 1, 0, none⟩ = some (.int .i64 ((g + k : Nat) : Int)) := hk1.cell rfl
      have HQ := Lib.hid hk1
      have HK := Lib.hid hk3
      have hlen : (wr C g b k).length = C.length := wr_length C g b k
      have hfk : g + k < (wr C g b k).length := by omega
      have hrd := HRB.out k hlt (HR5.out.kpNe hk3 HB5.out.size (fun ad' e e2 => by injection e with e; subst e; have := HAL.out; omega))
      have HWR := Lib.hid (write_ok HDW.out.drew (g + k) hfk (hrd.kpNe (Kp.of_old (may := fun _ => False) (Below.refl W.heap.size W).drew) (Nat.le_trans HB5.out.size hk3.size) (fun _ _ h => h)))
      have hmix : Tryz.prog.follows .mixedOrders = true := follows_mixed
      clear hk1 hk2 hk3 hpl hrd hm0 hlen
      gi_wp2
      gi_region_with_o ((refine ⟨trivial, ?_⟩; refine (CallsIn.inRound _ (callsIn_wide.2 HWR.out)).mono ?_; rintro e w7 ⟨rfl, hd7, hk7⟩; have HD7 := Lib.hid hd7; have HK7 := Lib.hid hk7; clear hd7 hk7))
      all_goals
        have hne : ¬ b0 + 1 = m := by have := HPL.out; omega
        have HQ7 := Lib.hid (HQ.out.drew.kp HK7.out hne)
        have cq7 : w7.cell? ⟨b0 + 1, 0, none⟩ = some (.int .i64 ((g + k : Nat) : Int)) := HQ7.out.cell rfl
        have fq7 : w7.frozen? ⟨b0 + 1, 0, none⟩ = false := HQ7.out.frozen 0
        clear HWR c1 cJ cq hfk
        gi_wp2
        have HK9 := Lib.hid ((Kp.stays (fun x => x = m ∨ x = b0 + 1)).trans (HK7.out.mono (fun x e => .inl e)) (show Kp (fun x => x = m ∨ x = b0 + 1) w7 _ from (Kp.of_only (Only.set (g := b0 + 1) w7 0 (.int .i64 ((g : Int) + (k : Int) + 1)))).mono (fun x e => .inr e)))
        have HK8 := Lib.hid (show Kp (fun x => x = m ∨ x = b0 + 1) W _ from (Kp.of_old (Below.refl W.heap.size W).drew).via HK9.out (fun _ _ e => e))
        refine ⟨keepsFrom_kp HK8.out (fun x e => ?_), ⟨HK8.out.block _ ?_ ?_, HK8.out.block _ ?_ ?_⟩, ?_, ?_, (Kp.stays _).trans HK.out HK8.out⟩
        · rcases e with rfl | rfl
          · have := HPL.out; have := HC2.out.lt; have := HGA.out; omega
          · exact HA6.out.lt
        · have := HC1.out.lt; have := HK.out.size; omega
        · have := HPL.out; have := HGA.out; omega
        · have := HC2.out.lt; have := HK.out.size; omega
        · have := HPL.out; have := HGA.out; omega
        · have := HQ7.out.setCell 0 (.int .i64 ((g : Int) + (k : Int) + 1))
          rw [show (g : Int) + ((k : Int) + 1) = (g : Int) + (k : Int) + 1 by omega]
          exact this
        · refine HD7.out.kp (may := fun x => x = b0 + 1) (Kp.of_only (Only.set (g := b0 + 1) w7 0 (.int .i64 ((g : Int) + (k : Int) + 1)))) ?_ ?_ ?_
          · have := HPL.out; omega
          · have := HPL.out; omega
          · have := HPL.out; omega
    case done =>
      rintro D W hD ⟨hk1, hk2, hk3⟩ hDD
      have hz : ¬ (b0 + 1 + 1 = m ∨ b0 + 1 + 1 = b0 + 1) := by have := HPL.out; omega
      have HZW := Lib.hid (HZ5.out.kp hk3 hz)
      have cz : W.cell? ⟨b0 + 1 + 1, 0, none⟩ = some (.int .i64 0) := HZW.out.cell rfl
      have fz : W.frozen? ⟨b0 + 1 + 1, 0, none⟩ = false := HZW.out.frozen 0
      have HDW := Lib.hid hk2
      have HKW := Lib.hid (show Kp (fun x => x = m ∨ x = b0 + 1) w W from (HB5.out.mono (fun x e => .inr e)).via hk3 (fun _ _ e => e))
      clear hk1 hk2 hk3 hz
      go_wp2
      refine ⟨by simp, .inl ⟨_, _, rfl, run_takeDeferred ?_, ?_⟩⟩
      · exact (set_other W (b0 + 1 + 1) 0 D (.int .i64 0) (by have := HZ5.out.lt; omega)).trans hDD
      have hw8 := Only.set (g := b0 + 1 + 1) W 0 (.int .i64 0)
      have hZ8 := HZW.out.setCell 0 (.int .i64 0)
      have hD8 := HDW.out.kp (may := fun x => x = b0 + 1 + 1) (Kp.of_only hw8) (by have := HPL.out; omega) (by have := HPL.out; omega) (by have := HPL.out; omega)
      have hk8 : Kp (fun x => x = m ∨ x = b0 + 1 ∨ x = b0 + 1 + 1) w (W.setCell ⟨b0 + 1 + 1, 0, none⟩ (.int .i64 0)) := (Kp.stays _).trans (HKW.out.mono (fun x e => e.imp id .inl)) ((Kp.of_only hw8).mono (fun x e => .inr (.inr e)))
      have hs8 : (W.setCell ⟨b0 + 1 + 1, 0, none⟩ (.int .i64 0)).heap.size = W.heap.size := by simp
      have hg7 := grownBy_putObj' (W.setCell ⟨b0 + 1 + 1, 0, none⟩ (.int .i64 0)) D (.deferred none)
      have hZ9 := hZ8.grow hg7 (fun e => by injection e with e; have := HZ5.out.lt; omega)
      have hD9 := hD8.grow hg7 (fun r e => by injection e with e; have := HPL.out; have := HZ5.out.lt; omega)
      refine ⟨_, results_c1 rfl rfl Tryz.isAgg23 (hZ9.cell rfl), rfl, by rw [HGG.out]; exact hD9, ?_⟩
      refine ⟨hg7.os.trans hk8.os, hg7.tape.trans hk8.tape, hg7.output.trans hk8.output, Nat.le_trans hk8.size hg7.size, fun x hx hm => ?_⟩
      have h0 := HB0.out
      refine (hg7.block x (Nat.lt_of_lt_of_le hx hk8.size) (fun e => ?_)).trans (hk8.block x hx (fun e => ?_))
      · injection e with e
        have := HZ5.out.lt
        omega
      · rcases e with e | e | e
        · exact hm e
        · omega
        · omega
end
end Go.Proofs.YtgpfognglpfmoaaGreatDoor
end
section
/- A region that draws its order, inside a fence (in a round, too): what stays is told by a relation R; what is only read is taken at once. -/
namespace Go.Proofs.YtgpfognglpfmoaaGreatDoor
set_option linter.unusedSimpArgs false
set_option linter.unusedVariables false
open Go.RowKit

section
variable {P : Program} {F : Fence} {n : Nat} {ops : Array Oper} {Q : Exit → Act → World → Prop} {S : World → Prop} {R : World → World → Prop}

/-- None of the operations defers. -/
def noDefer (ops : Array Oper) : Bool := ops.all fun o => match o.op with | .defer _ => false | _ => true
theorem sem_plain (h : noDefer ops = true) {j : Nat} {o : Oper} (hj : ops[j]? = some o) (ρ : Operand → Value) : o.semAt F.round ρ = execOp ρ o := by
  cases hr : F.round with
  | none => rfl
  | some l =>
    refine Oper.semAt_some l ρ o fun c hc => ?_
    have hm : o ∈ ops := Array.mem_of_getElem? hj
    have := (Array.all_eq_true_iff_forall_mem.1 h) o hm
    rw [hc] at this
    cases this

/-- The operation is carried out, calls nobody, and yields v in each world that meets S. -/
structure Sure (P : Program) (ops : Array Oper) (S : World → Prop) (o : Oper) (v : Value) (a : Act) : Prop where
  want : Region.wanted o (yielded ops a.tmps) = true
  val : ∀ W, S W → (execOp a.eval o).run P W = .ok (.value v) W
  calm : ∀ W, o.about P W a.eval = none

/-- The region from here on, in all orders; S holds behind each operation. -/
def Held (F : Fence) (n : Nat) (P : Program) (ops : Array Oper) (Q : Exit → Act → World → Prop) (S : World → Prop) : Nat → Array Bool → Act → World → Prop
  | 0, listed, a, w => Region.ready .any ops listed = [] ∧ Q .normal a w
  | k + 1, listed, a, w => (Region.ready .any ops listed = [] → Q .normal a w) ∧ ∀ i ∈ Region.ready .any ops listed, wpOpIn F n P ops Q i (fun a' w' => S w' ∧ Held F n P ops Q S k (listed.setIfInBounds i true) a' w') a w

theorem Held.any : ∀ (k : Nat) (listed : Array Bool) (a : Act) (w : World), Held F n P ops Q S k listed a w → wpAnyIn F n P .any ops Q k listed a w
  | 0, _, _, _, h => h
  | k + 1, _, _, _, h => ⟨h.1, fun i hi => wpOpIn_mono (fun a' w' e => Held.any k _ a' w' e.2) (h.2 i hi)⟩
theorem Held.weaken {S' : World → Prop} (hS : ∀ W, S' W → S W) : ∀ (k : Nat) (listed : Array Bool) (a : Act) (w : World), Held F n P ops Q S' k listed a w → Held F n P ops Q S k listed a w
  | 0, _, _, _, h => h
  | k + 1, _, _, _, h => ⟨h.1, fun i hi => wpOpIn_mono (fun a' w' e => ⟨hS _ e.1, Held.weaken hS k _ a' w' e.2⟩) (h.2 i hi)⟩

theorem Sure.here {i : Nat} {o : Oper} {v : Value} {a : Act} {w : World} {K : Act → World → Prop} (hd : noDefer ops = true) (hi : ops[i]? = some o) (h : Sure P ops S o v a) (hS : S w) (hk : K (a.put o.dst v) w) : wpOpIn F n P ops Q i K a w := by
  unfold wpOpIn
  rw [hi]
  show if _ then _ else _
  rw [if_pos h.want]
  refine ⟨fun f hf => (by rw [h.calm w] at hf; cases hf), ?_⟩
  rw [sem_plain hd hi, h.val w hS]
  exact hk
theorem Sure.put {o q : Oper} {v u : Value} {a : Act} (h : Sure P ops S o v a) (ho : ∀ cs b, o.op ≠ .select cs b) (hx : ∀ d, q.dst = some d → d ∉ o.looksAt ops) : Sure P ops S o v (a.put q.dst u) :=
  ⟨by rw [wanted_put o a q.dst u hx]; exact h.want, fun W hW => by rw [execOp_put o ho a q.dst u hx]; exact h.val W hW, fun W => by rw [about_put o W a q.dst u hx]; exact h.calm W⟩

/-- Another operation first, then this one: as this one first. -/
theorem Sure.swap {j : Nat} {o q : Oper} {v : Value} (hd : noDefer ops = true) (hj : ops[j]? = some q) (hap : o.apart ops q = true) (ho : ∀ cs b, o.op ≠ .select cs b) (hq : ∀ cs b, q.op ≠ .select cs b)
    (hQ : ∀ c a w, Q (.panic c) (a.put o.dst v) w → Q (.panic c) a w) {K : Act → World → Prop} {a : Act} {w : World} (h : Sure P ops S o v a) (hk : wpOpIn F n P ops Q j K (a.put o.dst v) w) :
    wpOpIn F n P ops Q j (fun a' w' => Sure P ops S o v a' ∧ K (a'.put o.dst v) w') a w := by
  obtain ⟨x1, x2, x3⟩ := Oper.apart_spec hap
  have hput : ∀ u W, K ((a.put o.dst v).put q.dst u) W → Sure P ops S o v (a.put q.dst u) ∧ K ((a.put q.dst u).put o.dst v) W := fun u W e => ⟨h.put ho x3, by rw [← Act.put_comm a v u x2]; exact e⟩
  have hend : ∀ (e : Ending) W, (match e, W with | .returned u, W => K ((a.put o.dst v).put q.dst u) W | .panicked c, W => Q (.panic c) (a.put o.dst v) W | .outgrown, _ => LetsOut Q) →
      (match e, W with | .returned u, W => Sure P ops S o v (a.put q.dst u) ∧ K ((a.put q.dst u).put o.dst v) W | .panicked c, W => Q (.panic c) a W | .outgrown, _ => LetsOut Q) := fun e W he => by
    cases e with
    | returned u => exact hput u W he
    | panicked c => exact hQ _ _ _ he
    | outgrown => exact he
  unfold wpOpIn at hk ⊢
  rw [hj] at hk ⊢
  simp only [wanted_put q a o.dst v x1, about_put q w a o.dst v x1] at hk ⊢
  by_cases hw : Region.wanted q (yielded ops a.tmps) = true
  · rw [if_pos hw] at hk ⊢
    obtain ⟨k1, k2⟩ := hk
    rw [about_put q w a o.dst v x1] at k1
    refine ⟨k1, ?_⟩
    rw [sem_plain hd hj] at k2 ⊢
    rw [execOp_put q hq a o.dst v x1] at k2
    cases hr : (execOp a.eval q).run P w with
    | ok x W =>
      rw [hr] at k2
      cases x with
      | value u => exact hput u W k2
      | skip => exact hput undef W k2
      | defer d =>
        refine ⟨Sure.put (a := { a with defers := d :: a.defers }) ⟨h.want, h.val, h.calm⟩ ho x3, ?_⟩
        simp only [Oper.uponIn] at k2
        rw [← Act.put_comm _ v undef x2, ← Act.put_defers]
        exact k2
      | enter f args => exact ⟨k2.1, CallsIn.mono k2.2 hend⟩
      | row r args => exact ⟨k2.1, RowsIn.mono k2.2 fun u W' e => hput u W' e⟩
      | round l f tmps assign body => exact ⟨k2.1, RoundIn.mono k2.2 hend⟩
      | _ => exact k2.elim
    | halt x W =>
      rw [hr] at k2
      cases x with
      | panic u => exact hQ _ _ _ k2
      | _ => exact k2.elim
  · rw [if_neg hw] at hk ⊢
    exact ⟨hk.1, hput undef w hk.2⟩

/-- What is only read is taken at once. -/
theorem Held.first {i : Nat} {o : Oper} {v : Value} (hd : noDefer ops = true) (hi : ops[i]? = some o) (hs : Region.noSelect ops = true) (hQ : ∀ c a w, Q (.panic c) (a.put o.dst v) w → Q (.panic c) a w) :
    ∀ (k : Nat) (listed : Array Bool) (a : Act) (w : World),
      (∀ j q, ops[j]? = some q → j ≠ i → listed.getD j true = false → (∀ e ∈ q.after, Region.binds .any e = true → e.on ≠ i) → o.apart ops q = true) →
      i ∈ Region.ready .any ops listed → Sure P ops S o v a → S w →
      Held F n P ops Q S k (listed.setIfInBounds i true) (a.put o.dst v) w → Held F n P ops Q S (k + 1) listed a w
  | k, listed, a, w, hap, hr, hy, hS, H => by
    have hsel := Region.noSelect_spec hs
    refine ⟨fun h => (by rw [h] at hr; cases hr), fun j hj => ?_⟩
    by_cases hji : j = i
    · subst hji
      exact hy.here hd hi hS ⟨hS, H⟩
    · have hjr := ready_mono hj hji
      cases k with
      | zero => rw [H.1] at hjr; cases hjr
      | succ k =>
        obtain ⟨hun, q, hq, hall⟩ := mem_ready.1 hj
        have hno : ∀ e ∈ q.after, Region.binds .any e = true → e.on ≠ i := fun e he hb heq => by
          have h1 := hall e he hb
          have h0 := (mem_ready.1 hr).1
          rw [heq] at h1
          rcases Nat.lt_or_ge i listed.size with h' | h'
          · simp [h'] at h0 h1; rw [h0] at h1; cases h1
          · simp [Array.getElem?_eq_none h'] at h1
        refine wpOpIn_mono (fun a' w' h3 => ⟨h3.2.1, ?_⟩) (hy.swap hd hq (hap j q hq hji hun hno) (fun cs b => hsel i o cs b hi) (fun cs b => hsel j q cs b hq) hQ (H.2 j hjr))
        refine Held.first hd hi hs hQ k (listed.setIfInBounds j true) a' w' (fun x ox hx hxi hun' hno' => hap x ox hx hxi ?_ hno') (ready_mono hr (Ne.symm hji)) h3.1 h3.2.1 ?_
        · by_cases hjx : j = x
          · subst hjx; exact hun
          · rwa [getD_set_ne true hjx] at hun'
        · rw [Array.setIfInBounds_comm _ _ hji]
          exact h3.2.2

theorem fh_start (R : World → World → Prop) {id : Nat} {a : Act} {w : World} (hm : P.follows .mixedOrders = true)
    (h : Held F n P ops Q (R w.drew) ops.size (Array.replicate ops.size false) a w.drew) : (Code.region id ops true).wpIn F n P Q a w := wpIn_region_any hm (Held.any _ _ _ _ h)
theorem fh_take (hR : Stays R) (i : Nat) {o : Oper} {v : Value} {k : Nat} {listed : Array Bool} {a : Act} {w : World} (hi : ops[i]? = some o) (hd : noDefer ops = true)
    (hs : Region.noSelect ops = true) (hf : Region.free .any ops listed i = true) (hr : (Region.ready .any ops listed).contains i = true)
    (hQ : ∀ c a w, Q (.panic c) (a.put o.dst v) w → Q (.panic c) a w) (hw : Region.wanted o (yielded ops a.tmps) = true) (hn : ∀ W, o.about P W a.eval = none) (hy : ∀ W, R w W → (execOp a.eval o).run P W = .ok (.value v) W)
    (h : Held F n P ops Q (R w) k (listed.setIfInBounds i true) (a.put o.dst v) w) : Held F n P ops Q (R w) (k + 1) listed a w :=
  Held.first hd hi hs hQ k listed a w (Region.free_spec hi hf) (by simpa using hr) ⟨hw, hy, hn⟩ (hR.refl w) h
theorem fh_step (hR : Stays R) (i : Nat) {o : Oper} {k : Nat} {listed : Array Bool} {a : Act} {w : World} (hr : Region.ready .any ops listed = [i]) (ho : ops[i]? = some o)
    (h : ∀ K : Act → World → Prop, Shut (∀ a' w', R w w' → Held F n P ops Q (R w') k (listed.setIfInBounds i true) a' w' → K a' w') →
      if Region.wanted o (yielded ops a.tmps) = true then Oper.wpIn F n P o a w K Q else (∀ f, o.about P w a.eval = some f → F.fn f) ∧ K (a.put o.dst undef) w) : Held F n P ops Q (R w) (k + 1) listed a w := by
  refine ⟨fun e => (by rw [hr] at e; cases e), fun j hj => ?_⟩
  rw [hr] at hj
  obtain rfl : j = i := by simpa using hj
  have h1 := h (fun a' w' => R w w' ∧ Held F n P ops Q (R w) k (listed.setIfInBounds j true) a' w') (fun a' w' hw hh => ⟨hw, Held.weaken (fun W hW => hR.trans hw hW) _ _ _ _ hh⟩)
  unfold wpOpIn
  rw [ho]
  exact h1
theorem fh_done {listed : Array Bool} {a : Act} {w : World} (hr : Region.ready .any ops listed = []) (h : Q .normal a w) : ∀ k, Held F n P ops Q S k listed a w
  | 0 => ⟨hr, h⟩
  | _ + 1 => ⟨fun _ => h, by rw [hr]; simp⟩
/-- A round is one in a round, too. -/
theorem round_any {n' l f : Nat} {tmps : Array Value} {assign body : Code} {w : World} {T : Ending → World → Prop} (l2 : Nat) (h : RoundIn Fence.wide n P l f tmps assign body w T) : RoundIn (Fence.wide.inRound l2) n' P l f tmps assign body w T :=
  ⟨trivial, fun c cs _ => h.2 c cs (fun d hd => by cases hd)⟩
end
end Go.Proofs.YtgpfognglpfmoaaGreatDoor
end
section
/- Append in plain words: the sectors that it writes. -/
namespace Go.Proofs.YtgpfognglpfmoaaGreatDoor
set_option linter.unusedSimpArgs false
set_option linter.unusedVariables false
set_option maxRecDepth 8192
open Go.RowKit

theorem sect_left {l m : List UInt8} {j : Nat} (h : 256 * j + 256 ≤ l.length) : sect (l ++ m) j = sect l j := by
  rw [sect, sect, List.drop_append_of_le_length (by omega), List.take_append_of_le_length (by rw [List.length_drop]; omega)]
theorem sect_pad_out {l : List UInt8} {N j : Nat} (h : l.length ≤ 256 * j) (hN : 256 * j + 256 ≤ N) : sect (pad N l) j = List.replicate 256 0 := by
  rw [sect, pad, List.drop_append, List.drop_eq_nil_of_le h, List.nil_append, List.drop_replicate, List.take_replicate]
  congr 1
  omega
theorem wr_congr {C : Ca} {a : Nat} {b b' : List UInt8} : ∀ q, (∀ k, k < q → sect b k = sect b' k) → wr C a b q = wr C a b' q
  | 0, _ => rfl
  | q + 1, h => by rw [wr, wr, wr_congr q (fun k hk => h k (by omega)), h q (by omega)]
theorem sect_part (D : List UInt8) {i q k : Nat} (hk : k < q) : sect ((D.drop (256 * i)).take (q * 256)) k = sect D (i + k) := by
  rw [sect, sect, List.drop_take, List.take_take, List.drop_drop, Nat.mul_add]
  congr 1
  omega
theorem sect_drop (D : List UInt8) (i k : Nat) : sect (D.drop (256 * i)) k = sect D (i + k) := by
  rw [sect, sect, List.drop_drop, Nat.mul_add]
/-- The log's tail, and noughts behind it: a part of the padded area. -/
theorem tail_pad {X : List UInt8} {N s u : Nat} (hs : s ≤ X.length) (hu : X.length ≤ u) (hN : u ≤ N) : X.drop s ++ List.replicate (u - X.length) 0 = ((pad N X).drop s).take (u - s) := by
  rw [pad, List.drop_append_of_le_length hs, List.take_append, List.take_of_length_le (by rw [List.length_drop]; omega), List.length_drop, List.take_replicate]
  congr 2
  omega
/-- What is read of the area behind the writes. -/
theorem rdS_append {B X Y : List UInt8} {C : Ca} {f area i q : Nat} (hC : ∀ x, some x ∈ C → x.length = 256) (hB : B.length = 256 * C.length) (hfa : f + area ≤ C.length)
    (hA : rdS B C f area = pad (area * 256) Y) (R : List UInt8) (hX : X = Y ++ R) (hXN : X.length ≤ area * 256) (hi : i = Y.length / 256) (hq : i + q = (X.length + 255) / 256) :
    rdS B (wr C (f + i) ((pad (area * 256) X).drop (256 * i)) q) f area = pad (area * 256) X := by
  have hYX : Y.length ≤ X.length := by rw [hX, List.length_append]; omega
  refine rdS_of (pad_length hXN) fun k hk => ?_
  rw [look_wr (f + k) q (by omega)]
  by_cases h : f + i ≤ f + k ∧ f + k < f + i + q
  · rw [if_pos h, sect_drop]
    congr 1
    omega
  · rw [if_neg h, ← sect_rdS hC hB f k area hfa hk, hA]
    by_cases h2 : k < i
    · have h3 : 256 * k + 256 ≤ Y.length := by omega
      rw [pad, pad, hX, List.append_assoc, sect_left h3, sect_left h3]
    · have h4 : X.length ≤ 256 * k := by omega
      rw [sect_pad_out (by omega) (by omega), sect_pad_out h4 (by omega)]
end Go.Proofs.YtgpfognglpfmoaaGreatDoor
end
