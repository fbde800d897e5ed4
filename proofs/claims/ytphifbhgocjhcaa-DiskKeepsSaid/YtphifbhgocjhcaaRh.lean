/- The document's own disk: Write, Flush, Crash, Cached. -/
import Derived.Test.YtphifbhgocjhcaaRg
namespace Go.Proofs.Ytphifbhgocjhcaa
set_option linter.unusedSimpArgs false
set_option linter.unusedVariables false
open Go.RowKit Go.Maps

/-- A slice of the call's own, as a cached sector. -/
theorem cv_new {w w2 : World} {lo p b q : Nat} {B : List UInt8} {C : Ca} {A : Option Addr} {c : Nat} {l : List UInt8} (h : Rk w lo p b q B C) (hr : Rd w2 w2.heap.size A l.length c l) (ha : ∀ ad, A = some ad → w.heap.size ≤ ad.block) (hlo : lo ≤ w.heap.size) (hl : l.length = 256) (hb : Below w.heap.size w w2) :
    Cv w2 lo p b q (.slice A l.length c) (some l) := by
  rw [hl] at hr ⊢
  obtain ⟨ad, rfl, h1, h2⟩ := hr.2.2 (by omega)
  have h3 := ha ad rfl
  have h4 := h.plt
  have h5 := h.blt
  have h6 := h.qlt
  exact ⟨hl, ad, c, rfl, hr.cap, by omega, h1, by omega, by omega, by omega, h2⟩
theorem wp_store_sl {w : World} {lo p b q i : Nat} {B : List UInt8} {C : Ca} {o : Oper} {a : Act} {K : Act → World → Prop} {Q : Exit → Act → World → Prop} (x y : Operand) (ho : o.op = .store 27 x y) {n c : Nat} {A : Option Addr} (h : Rk w lo p b q B C) (hi : i < C.length)
    (hx : a.eval x = .pointer (some ⟨q, i, none⟩)) (hy : a.eval y = .slice A n c) (hK : K (a.put o.dst undef) (w.setCell ⟨q, i, none⟩ (.slice A n c))) : o.wp Try.prog a w K Q := by
  obtain ⟨v, hc, _⟩ := h.at_ hi
  have hf := h.qfroz i
  unfold Oper.wp execOp
  simp only [ho, hx, hy]
  simp [Instr.storeAt, Instr.sureAddr, storeVar, storeCells, Try.sizeOf27, hc, hf, go_sem]
  exact hK

section
variable {w : World} {lo p b q : Nat} {B : List UInt8} {C : Ca}
theorem rwrite_bad (h : Rk w lo p b q B C) (at_ : Int) {A : Option Addr} {n c : Nat} (hb : ¬ (0 ≤ at_ ∧ at_ < C.length ∧ n = 256)) : Calls Try.prog 26 #[ptr p, .int .i64 at_, .slice A n c] w fun e w' => e = .returned (.int .i64 2) ∧ w' = w := by
  have HS := Lib.hid (rsize_any h)
  clear h
  by_cases h0 : at_ < 0
  · clear hb
    go_enter Try.func26, Try.ntmps26
    go_wp2
    go_ret
    exact ⟨rfl, rfl⟩
  · by_cases h1 : at_ < (C.length : Int)
    · have h2 : ¬ (n : Int) = 256 := fun e => hb ⟨by omega, h1, by omega⟩
      have h3 : ((n : Int) != 256) = true := by simp; omega
      clear hb
      go_enter Try.func26, Try.ntmps26
      go_wp2_with (go_at_call 38; refine HS.out.mono ?_; rintro e w' ⟨rfl, rfl⟩)
      all_goals first | (go_ret; exact ⟨rfl, rfl⟩) | (exfalso; simp_all)
    · clear hb
      go_enter Try.func26, Try.ntmps26
      go_wp2_with (go_at_call 38; refine HS.out.mono ?_; rintro e w' ⟨rfl, rfl⟩)
      go_ret
      exact ⟨rfl, rfl⟩
set_option maxRecDepth 100000 in
theorem rwrite_ok (h : Rk w lo p b q B C) (i : Nat) (hi : i < C.length) {top c : Nat} {A : Option Addr} {l : List UInt8} (hr : Rd w top A 256 c l) (ht : top ≤ w.heap.size) (hlo : lo ≤ w.heap.size) :
    Calls Try.prog 26 #[ptr p, .int .i64 (i : Int), .slice A 256 c] w fun e w' => e = .returned (.int .i64 0) ∧ Rk w' lo p b q B (C.set i (some l)) ∧ Kp (fun k => k = b ∨ k = q) w w' := by
  have HS := Lib.hid (rsize_any h)
  have HD := Lib.hid h
  have h1 := h.h1
  obtain ⟨c0, c1⟩ := h.c
  have HC1 := Lib.hid c1
  have HPL := Lib.hid h.plt
  have HPN : Hid (¬ (p = b ∨ p = q ∨ w.heap.size ≤ p)) := Lib.hid (by have := h.pb; have := h.pq; have := h.plt; omega)
  have HL := Lib.hid hr
  have HT := Lib.hid ht
  have HLO := Lib.hid hlo
  have HI := Lib.hid hi
  have n0 : ¬ ((i : Int) < 0) := by omega
  have n1 : (i : Int) < (C.length : Int) := by omega
  clear hr ht h hlo
  go_enter Try.func26, Try.ntmps26
  go_wp2_with (go_at_call 38; refine HS.out.mono ?_; rintro e w' ⟨rfl, rfl⟩)
  have HOL : Hid (Ow (w'.alloc (.cells #[] 5)).drew w'.heap.size (.slice (some ⟨w'.heap.size, 0, none⟩) 0 0) []) := Lib.hid (Ow.lit w' #[] [] rfl (by simp))
  have HLL : Hid (Rd (w'.alloc (.cells #[] 5)).drew top A 256 c l) := Lib.hid (HL.out.below ((Below.refl _ _).alloc HT.out _).drew)
  have HSZ : Hid (w'.heap.size ≤ (w'.alloc (.cells #[] 5)).drew.heap.size) := Lib.hid (by simp)
  have hR := Kp.stays (fun k => k = b ∨ k = q ∨ w'.heap.size ≤ k)
  refine reg_start (Kp (fun k => k = b ∨ k = q ∨ w'.heap.size ≤ k)) follows_mixed ?_
-- region 3 of f26: 10 operations, draws: true
  refine reg_take (v := ?_) hR 0 rfl (by kernel_rfl) (by kernel_rfl) (by kernel_rfl) (fun _ _ _ h => h) (by rfl) ?_ ?_
  rotate_left
  · intro W hW; go_simp; try with_reducible rfl
  try simp only [Act.put, List.getElem_toArray, List.getElem_cons_succ, List.getElem_cons_zero, List.setIfInBounds_toArray, List.set_cons_zero, List.set_cons_succ]
  refine reg_take (v := ?_) hR 1 rfl (by kernel_rfl) (by kernel_rfl) (by kernel_rfl) (fun _ _ _ h => h) (by rfl) ?_ ?_
  rotate_left
  · intro W hW; go_simp; try with_reducible rfl
  try simp only [Act.put, List.getElem_toArray, List.getElem_cons_succ, List.getElem_cons_zero, List.setIfInBounds_toArray, List.set_cons_zero, List.set_cons_succ]
  refine reg_take (v := ?_) hR 2 rfl (by kernel_rfl) (by kernel_rfl) (by kernel_rfl) (fun _ _ _ h => h) (by rfl) ?_ ?_
  rotate_left
  · intro W hW; go_simp; try with_reducible rfl
  try simp only [Act.put, List.getElem_toArray, List.getElem_cons_succ, List.getElem_cons_zero, List.setIfInBounds_toArray, List.set_cons_zero, List.set_cons_succ]
  refine reg_take (v := .slice (some ⟨q, 0, none⟩) C.length C.length) hR 3 rfl (by kernel_rfl) (by kernel_rfl) (by kernel_rfl) (fun _ _ _ h => h) (by rfl) ?_ ?_
  · intro W hW; have c1 := (hW.cell (p := ⟨p, 1, none⟩) HPL.out HPN.out).trans HC1.out; go_simp
  try simp only [Act.put, List.getElem_toArray, List.getElem_cons_succ, List.getElem_cons_zero, List.setIfInBounds_toArray, List.set_cons_zero, List.set_cons_succ]
  refine reg_take (v := ?_) hR 4 rfl (by kernel_rfl) (by kernel_rfl) (by kernel_rfl) (fun _ _ _ h => h) (by rfl) ?_ ?_
  rotate_left
  · intro W hW; go_simp; try with_reducible rfl
  try simp only [Act.put, List.getElem_toArray, List.getElem_cons_succ, List.getElem_cons_zero, List.setIfInBounds_toArray, List.set_cons_zero, List.set_cons_succ]
  refine reg_take (v := ?_) hR 6 rfl (by kernel_rfl) (by kernel_rfl) (by kernel_rfl) (fun _ _ _ h => h) (by rfl) ?_ ?_
  rotate_left
  · intro W hW; go_simp; try with_reducible rfl
  try simp only [Act.put, List.getElem_toArray, List.getElem_cons_succ, List.getElem_cons_zero, List.setIfInBounds_toArray, List.set_cons_zero, List.set_cons_succ]
  -- STEP 5: Op.buildSlice 27 0 #[]
  refine reg_step hR 5 (by kernel_rfl) rfl fun K hK => ?_
  try simp only [Act.put, List.getElem_toArray, List.getElem_cons_succ, List.getElem_cons_zero, List.setIfInBounds_toArray, List.set_cons_zero, List.set_cons_succ]
  go_simp
  
  refine hK.out _ _ ?_ ?_
  · exact Kp.of_old (bl_alloc (bl0 _) _)
  clear hK K
  try simp only [Act.put, List.getElem_toArray, List.getElem_cons_succ, List.getElem_cons_zero, List.setIfInBounds_toArray, List.set_cons_zero, List.set_cons_succ]
  -- STEP 7: Op.call { callee := Callee.builtin Builtin.append, args := #[t25, t26], argTypes := #[27, 27] }
  refine reg_step hR 7 (by kernel_rfl) rfl fun K hK => ?_
  try simp only [Act.put, List.getElem_toArray, List.getElem_cons_succ, List.getElem_cons_zero, List.setIfInBounds_toArray, List.set_cons_zero, List.set_cons_succ]
  rw [if_pos (by rfl)]
  refine wp_app _ _ rfl rfl (HOL.out) rfl (HLL.out) (by simp) HSZ.out ?_; intro v2 w2 ho2 hg2
  have HG2 := Lib.hid (hg2)
  have HB2 : Hid (Below w'.heap.size w' w2) := Lib.hid (((Below.refl _ w').alloc (Nat.le_refl _) (.cells #[] 5)).grown (w' := w2) (row := some w'.heap.size) ⟨hg2.os, hg2.tape, hg2.output, hg2.size, hg2.block⟩ (by simp) (fun g hg => by injection hg with hg; omega))
  obtain ⟨A2, c2, rfl, hr2, ha2⟩ := ho2.rdTop
  simp only [List.nil_append] at hr2 ⊢
  have hl2 := hr2.len
  have HV2 := Lib.hid (cv_new HD.out hr2 ha2 HLO.out HL.out.len HB2.out)
  have HR2 := Lib.hid (HD.out.old HB2.out)
  clear ho2 hg2 hr2 ha2 hl2
  refine hK.out _ _ ?_ ?_
  · exact ⟨HG2.out.os, HG2.out.tape, HG2.out.output, HG2.out.size, fun k hk hn => HG2.out.block k hk (fun e => hn (.inr (.inr (by have e' : some k = some w'.heap.size := e; injection e' with e'; exact Nat.le_of_eq e'.symm))))⟩
  clear hK K
  try simp only [Act.put, List.getElem_toArray, List.getElem_cons_succ, List.getElem_cons_zero, List.setIfInBounds_toArray, List.set_cons_zero, List.set_cons_succ]
  refine reg_take (v := ?_) hR 8 rfl (by kernel_rfl) (by kernel_rfl) (by kernel_rfl) (fun _ _ _ h => h) (by rfl) ?_ ?_
  rotate_left
  · intro W hW; go_simp; try with_reducible rfl
  try simp only [Act.put, List.getElem_toArray, List.getElem_cons_succ, List.getElem_cons_zero, List.setIfInBounds_toArray, List.set_cons_zero, List.set_cons_succ]
  -- STEP 9: Op.store 27 (t28) (t27)
  refine reg_step hR 9 (by kernel_rfl) rfl fun K hK => ?_
  try simp only [Act.put, List.getElem_toArray, List.getElem_cons_succ, List.getElem_cons_zero, List.setIfInBounds_toArray, List.set_cons_zero, List.set_cons_succ]
  rw [if_pos (by rfl)]
  refine wp_store_sl _ _ rfl (i := i) HR2.out HI.out (by rfl) rfl ?_
  refine hK.out _ _ ?_ ?_
  · exact (HR2.out.setC HI.out HV2.out).2.mono (fun k hk => .inr (.inl hk))
  clear hK K
  try simp only [Act.put, List.getElem_toArray, List.getElem_cons_succ, List.getElem_cons_zero, List.setIfInBounds_toArray, List.set_cons_zero, List.set_cons_succ]
  refine reg_done (by kernel_rfl) ?_ _

  go_wp2
  go_ret
  exact ⟨rfl, (HR2.out.setC HI.out HV2.out).1, ((Kp.old HB2.out).trans ((HR2.out.setC HI.out HV2.out).2.mono (fun k hk => .inr hk)))⟩

/-- copy of a cached sector among the bytes. -/
theorem wpList_copy_put {ops : Array Oper} {rest : List Oper} {o : Oper} {a : Act} {Q : Exit → Act → World → Prop} (hgd : o.guard = none) (d s : Operand) (ho : o.op = .call { callee := .builtin .copy, args := #[d, s], argTypes := #[27, 27] })
    (h : Rk w lo p b q B C) {i : Nat} (hi : i < C.length) (hd : a.eval d = .slice (restAt (some ⟨b, 0, none⟩) B.length (i * 256)) (B.length - i * 256) (B.length - i * 256)) {ad : Addr} {c : Nat} {x : List UInt8} (hs : a.eval s = .slice (some ad) 256 c) (hx : x.length = 256)
    (hc : ∀ j u, x[j]? = some u → w.cell? (ad.add j) = some (B8 u)) (hK : ∀ w', Rk w' lo p b q (putS B i x) C → Kp (· = b) w w' → wpList Try.prog ops Q rest (a.put o.dst (goInt 256)) w') : wpList Try.prog ops Q (o :: rest) a w := by
  have hbd : 256 * i + 256 ≤ B.length := by have := h.hB; omega
  have hrs : restAt (some ⟨b, 0, none⟩) B.length (i * 256) = some ⟨b, 256 * i, none⟩ := by
    unfold restAt
    rw [if_neg (by omega), Option.map_some, Addr.add_mid, Nat.zero_add, Nat.mul_comm]
  have hl : (cs8 x).length = 256 := by rw [cs8_length, hx]
  have ht : w.there b (256 * i) 256 := Bk.there (B := B) ⟨[], 5, by rw [List.append_nil]; exact h.hb⟩ hbd
  obtain ⟨i0, hi0, _, hz1, _⟩ := info_parts info_u8
  have hrun := run_copy_cells (P := Try.prog) w 27 27 o.type 5 b (256 * i) (B.length - i * 256) (B.length - i * 256) ad 256 c (cs8 x) Try.underlying27 (by rw [hi0]; simp [hz1]) (by rw [hl]; exact (Nat.min_eq_left (by omega)).symm)
    (fun j v hv => by
      simp only [cs8, List.getElem?_map, Option.map_eq_some_iff] at hv
      obtain ⟨u, hu, rfl⟩ := hv
      exact hc j u hu) (fun j hj => (ht j (by omega)).1) (fun j hj => (ht j (by omega)).2) (cs8_one x)
  rw [hrs] at hd
  obtain ⟨r1, r2⟩ := h.put hi hx
  refine wpList_plain hgd fun K hK' => ?_
  unfold Oper.wp execOp
  simp only [ho, resolve, invoke, builtin, Sem.run_bind, Sem.run_pure, Result.andThen_ok, List.map_toArray, List.map_cons, List.map_nil, hd, hs, hrun, hl]
  exact hK' _ _ (hK _ r1 r2)
theorem wpList_store_sl {i : Nat} {ops : Array Oper} {rest : List Oper} {o : Oper} {a : Act} {Q : Exit → Act → World → Prop} (hgd : o.guard = none) (x y : Operand) (ho : o.op = .store 27 x y) {n c : Nat} {A : Option Addr} (h : Rk w lo p b q B C) (hi : i < C.length)
    (hx : a.eval x = .pointer (some ⟨q, i, none⟩)) (hy : a.eval y = .slice A n c) (hK : wpList Try.prog ops Q rest (a.put o.dst undef) (w.setCell ⟨q, i, none⟩ (.slice A n c))) : wpList Try.prog ops Q (o :: rest) a w :=
  wpList_plain hgd fun _ hK' => wp_store_sl x y ho h hi hx hy (hK' _ _ hK)

set_option maxRecDepth 100000 in
theorem put_any (h : Rk w lo p b q B C) {top : Nat} {A : Option Addr} {n c : Nat} {keep : List Bool} (hk : Bi w top A n c keep) (ht : top ≤ lo) (hn : n ≤ 4294967296) (all : Bool) :
    Calls Try.prog 39 #[ptr p, .slice A n c, .bool all] w fun e w' => e = .returned (.tuple #[]) ∧ Rk w' lo p b q (settle C (sel all (idx 0 C) keep) B) (noC C.length) ∧ Kp (fun k => k = b ∨ k = q) w w' := by
  have HR := Lib.hid h
  have HKp := Lib.hid hk
  have HTp := Lib.hid ht
  have hlen := hk.1
  have HL0 := Lib.hid (And.intro h.lb h.lq)
  have hC := h.hC
  have h1 := h.h1
  have HB0 := Lib.hid h.hB
  have HC := Lib.hid hC
  have hq27 : ∀ (w : World) (a : Option Addr) (n c n' c' : Nat), (binOp .eql 27 (.slice a n c) (.slice none n' c')).run Try.prog w = .ok (.bool a.isNone) w := fun w a n c n' c' => Lib.run_eql_slice_nil w _ _ a n c n' c' Try.underlying27
  clear h hk ht hC
  go_enter Try.func39, Try.ntmps39
  go_wp2
  go_loopw [6, 7] (fun k' i' wr => ∃ i : Nat, i ≤ C.length ∧ k' = .int .i64 ((idx 0 (C.take i)).length : Int) ∧ i' = .int .i64 (i : Int) ∧ Hid (Rk wr lo p b q (settle C (sel all (idx 0 (C.take i)) keep) B) (left C i)) ∧ Hid (Kp (fun k => k = b ∨ k = q) w wr)) (fun _ i' _ => C.length - (RowKit.intOf i').toNat)
  case atStart => exact ⟨0, by omega, rfl, rfl, Lib.hid (by rw [left_zero]; cases all <;> simpa [sel, idx, chosen, settle] using HR.out), Lib.hid (Kp.refl _ _)⟩
  case round =>
    obtain ⟨i, hi, rfl, rfl, HD, HK⟩ := hrel
    have hsz := rsize_any HD.out
    rw [left_len C i hi] at hsz
    have HSZ := Lib.hid hsz
    obtain ⟨c0, c1⟩ := HD.out.c
    rw [left_len C i hi] at c1
    clear hsz
    by_cases hlt : i < C.length
    · obtain ⟨v, hv, hcv⟩ := HD.out.at_ (i := i) (by rw [left_len C i hi]; exact hlt)
      rw [left_get] at hcv
      have hge : C[i]? = some (C.getD i none) := by rw [List.getD_eq_getElem?_getD, List.getElem?_eq_getElem hlt]; rfl
      have hit := idx_take C 0 i _ hge
      have hil : i < (left C i).length := by rw [left_len C i hi]; exact hlt
      have HIL := Lib.hid hil
      clear hge hil
      cases hg : C.getD i none with
      | none =>
        rw [hg] at hcv hit
        obtain rfl : v = .slice none 0 0 := hcv
        have e : idx 0 (C.take (i + 1)) = idx 0 (C.take i) := by rw [hit]; simp
        have HT := Lib.hid e
        have HN := Lib.hid (left_none C i hlt hg)
        clear hit hg e
        go_wp2_with (go_at_call 38; refine HSZ.out.mono ?_; rintro e w' ⟨rfl, rfl⟩)
        go_roundw
        case rel => exact ⟨i + 1, by omega, by rw [HT.out], by go_num, Lib.hid (by rw [HT.out, HN.out]; exact HD.out), HK⟩
        case measure => simp [RowKit.intOf]; omega
      | some x =>
        rw [hg] at hcv hit
        have hva : valAt C i = x := val_some hg
        obtain ⟨hx, ad, c', rfl, hc', g1, g2, g3, g4, g5, g6⟩ := hcv
        have HVV : Hid (settle C [i] = fun B => putS B i x) := Lib.hid (by funext B; rw [← hva]; rfl)
        have HX := Lib.hid hx
        have HXC : Hid (∀ j u, x[j]? = some u → wr.drew.cell? (ad.add j) = some (B8 u)) := Lib.hid g6
        have hT : idx 0 (C.take (i + 1)) = idx 0 (C.take i) ++ [i] := by rw [hit]; simp
        have HT := Lib.hid hT
        have HLS := Lib.hid (left_set C i hlt)
        have HLB : Hid (i * 256 ≤ (settle C (sel all (idx 0 (C.take i)) keep) B).length) := Lib.hid (by have := HD.out.hB; rw [left_len C i hi] at this; omega)
        have HW : Hid (IntKind.i64.wrap ((i : Int) * 256) = (i : Int) * 256) := Lib.hid (by rw [IntKind.wrap_i64]; omega)
        have hsn := sel_snoc all (idx 0 (C.take i)) keep i
        rw [← hT] at hsn
        have hkb : (idx 0 (C.take i)).length ≤ 16384 := by have := idx_len (C.take i) 0; rw [List.length_take] at this; omega
        generalize hkk : (idx 0 (C.take i)).length = kk at *
        clear hit hg hT g1 g2 g3 g4 g5 g6
        cases all with
        | true =>
          have HSC : Hid (sel true (idx 0 (C.take (i + 1))) keep = sel true (idx 0 (C.take i)) keep ++ [i]) := Lib.hid (by rw [hsn]; simp)
          clear hsn
          go_wp2_with (go_at_call 38; refine HSZ.out.mono ?_; rintro e w' ⟨rfl, rfl⟩)
          refine wp_region_still_tail 14 (by kernel_rfl) (by kernel_rfl) ?_
          simp only [List.take_succ_cons, List.take_zero, List.drop_succ_cons, List.drop_zero]
          iterate 6 still_step
          refine still_val rfl (exec_slice_lo _ _ rfl rfl rfl (k := i * 256) HLB.out (by simp; exact HW.out)) ?_
          iterate 7 still_step
          refine wpStill_nil ?_
          change wpList _ _ _ _ _ (World.drew _)
          refine wpList_copy_put rfl _ _ rfl HD.out.drew HIL.out rfl rfl HX.out HXC.out ?_
          intro w2 hd2 hk2
          have HD2 := Lib.hid hd2
          have HK2 := Lib.hid hk2
          clear c0 c1
          obtain ⟨d0, d1⟩ := hd2.c
          rw [left_len C i hi] at d1
          clear hd2 hk2
          go_wp2_with (first | (refine wpList_store_sl rfl _ _ rfl (i := i) HD2.out HIL.out (by rfl) rfl ?_) | fail)
          go_roundw
          case rel => exact ⟨i + 1, by omega, by rw [HT.out, List.length_append, hkk]; simp, by go_num, Lib.hid (by rw [HSC.out, settle_app, ← HLS.out]; rw [HVV.out]; exact (HD2.out.setC (o := none) HIL.out rfl).1), Lib.hid (HK.out.trans ((HK2.out.undrew.mono (fun k hk => .inl hk)).trans ((HD2.out.setC (o := none) (v := .slice none 0 0) HIL.out rfl).2.mono (fun k hk => .inr hk))))⟩
          case measure => simp [RowKit.intOf]; omega
        | false =>
          by_cases hkl : kk < n
          · obtain ⟨ad2, u, rfl, hku, hkc⟩ := (HKp.out.below (HK.out.below (base := top) (by have := HD.out.blt; have := HL0.out; have := HTp.out; have := HR.out.blt; omega) (fun k hk => by have := HL0.out; have := HTp.out; omega))).at_ hkl
            have hgd : keep.getD kk false = u := by rw [List.getD_eq_getElem?_getD, hku]; rfl
            rw [hgd] at hsn
            clear hku hgd
            cases u with
            | true =>
              have HSC : Hid (sel false (idx 0 (C.take (i + 1))) keep = sel false (idx 0 (C.take i)) keep ++ [i]) := Lib.hid (by rw [hsn]; simp)
              clear hsn
              go_wp2_with (go_at_call 38; refine HSZ.out.mono ?_; rintro e w' ⟨rfl, rfl⟩)
              refine wp_region_still_tail 14 (by kernel_rfl) (by kernel_rfl) ?_
              simp only [List.take_succ_cons, List.take_zero, List.drop_succ_cons, List.drop_zero]
              iterate 6 still_step
              refine still_val rfl (exec_slice_lo _ _ rfl rfl rfl (k := i * 256) HLB.out (by simp; exact HW.out)) ?_
              iterate 7 still_step
              refine wpStill_nil ?_
              change wpList _ _ _ _ _ (World.drew _)
              refine wpList_copy_put rfl _ _ rfl HD.out.drew HIL.out rfl rfl HX.out HXC.out ?_
              intro w2 hd2 hk2
              have HD2 := Lib.hid hd2
              have HK2 := Lib.hid hk2
              clear c0 c1
              obtain ⟨d0, d1⟩ := hd2.c
              rw [left_len C i hi] at d1
              clear hd2 hk2
              go_wp2_with (first | (refine wpList_store_sl rfl _ _ rfl (i := i) HD2.out HIL.out (by rfl) rfl ?_) | fail)
              go_roundw
              case rel => exact ⟨i + 1, by omega, by rw [HT.out, List.length_append, hkk]; simp, by go_num, Lib.hid (by rw [HSC.out, settle_app, ← HLS.out]; rw [HVV.out]; exact (HD2.out.setC (o := none) HIL.out rfl).1), Lib.hid (HK.out.trans ((HK2.out.undrew.mono (fun k hk => .inl hk)).trans ((HD2.out.setC (o := none) (v := .slice none 0 0) HIL.out rfl).2.mono (fun k hk => .inr hk))))⟩
              case measure => simp [RowKit.intOf]; omega
            | false =>
              have HSC : Hid (sel false (idx 0 (C.take (i + 1))) keep = sel false (idx 0 (C.take i)) keep) := Lib.hid (by rw [hsn]; simp)
              clear hsn
              go_wp2_with (first | (go_at_call 38; refine HSZ.out.mono ?_; rintro e w' ⟨rfl, rfl⟩) | (refine wpList_store_sl rfl _ _ rfl (i := i) HD.out HIL.out (by rfl) rfl ?_))
              go_roundw
              case rel => exact ⟨i + 1, by omega, by rw [HT.out, List.length_append, hkk]; simp, by go_num, Lib.hid (by rw [HSC.out, ← HLS.out]; exact (HD.out.setC (o := none) HIL.out rfl).1), Lib.hid (HK.out.trans ((HD.out.setC (o := none) (v := .slice none 0 0) HIL.out rfl).2.mono (fun k hk => .inr hk)))⟩
              case measure => simp [RowKit.intOf]; omega
          · have hgd : keep.getD kk false = false := by rw [List.getD_eq_getElem?_getD, List.getElem?_eq_none (by omega)]; rfl
            rw [hgd] at hsn
            have HSC : Hid (sel false (idx 0 (C.take (i + 1))) keep = sel false (idx 0 (C.take i)) keep) := Lib.hid (by rw [hsn]; simp)
            clear hsn hgd
            go_wp2_with (first | (go_at_call 38; refine HSZ.out.mono ?_; rintro e w' ⟨rfl, rfl⟩) | (refine wpList_store_sl rfl _ _ rfl (i := i) HD.out HIL.out (by rfl) rfl ?_))
            go_roundw
            case rel => exact ⟨i + 1, by omega, by rw [HT.out, List.length_append, hkk]; simp, by go_num, Lib.hid (by rw [HSC.out, ← HLS.out]; exact (HD.out.setC (o := none) HIL.out rfl).1), Lib.hid (HK.out.trans ((HD.out.setC (o := none) (v := .slice none 0 0) HIL.out rfl).2.mono (fun k hk => .inr hk)))⟩
            case measure => simp [RowKit.intOf]; omega
    · obtain rfl : C.length = i := by omega
      have HE := HD.out
      rw [List.take_of_length_le (Nat.le_refl _), left_end] at HE
      have HE := Lib.hid HE
      go_wp2_with (go_at_call 38; refine HSZ.out.mono ?_; rintro e w' ⟨rfl, rfl⟩)
      go_end0
      exact ⟨rfl, HE.out, HK.out⟩
end
end Go.Proofs.Ytphifbhgocjhcaa
