/- record: Bytes of a record that may be. -/
import Derived.Test.YtjaoaikcmbfnmaaRt
namespace Go.Proofs.Ytjaoaikcmbfnmaa
set_option maxRecDepth 8192
set_option linter.unusedSimpArgs false
set_option linter.unusedVariables false
open Go.RowKit

theorem Bk.kp {may : Nat → Prop} {w w' : World} {g : Nat} {cs : List Value} (h : Bk w g cs) (hk : Kp may w w') (hm : ¬ may g) : Bk w' g cs := by
  have hl := h.lt
  obtain ⟨t, h⟩ := h
  exact ⟨t, (hk.block g hl hm).trans h⟩
theorem kp_setRow {may : Nat → Prop} (w : World) (g : Nat) (cs : Array Value) (hm : may g) : Kp may w (w.setRow g cs) :=
  ⟨rfl, rfl, rfl, by simp [World.setRow], fun k _ hk => setRow_other w g k cs (fun e => hk (by rw [e]; exact hm))⟩
theorem kp_drew {may : Nat → Prop} (w : World) : Kp may w w.drew := Kp.of_old (Below.refl _ _).drew
theorem kp_grown {may : Nat → Prop} {w w' : World} {v : Value} (h : w.grownBy w' v.ownBlock) (hm : ∀ k, v.ownBlock = some k → may k) : Kp may w w' :=
  ⟨h.os, h.tape, h.output, h.size, fun k hk hn => h.block k hk (fun e => hn (hm k e.symm))⟩
/-- Block g, and what comes from top on, may change. -/
def gt (g top : Nat) (k : Nat) : Prop := k = g ∨ top ≤ k
theorem exec_slice_hi {o : Oper} {a : Act} {w : World} {T : TypeId} {n g h : Nat} (x y : Operand) (ho : o.op = .slice T x none (some y) none) (hx : a.eval x = .pointer (some ⟨g, 0, none⟩)) (hy : a.eval y = .int .i64 (h : Int)) (hu : Try.prog.underlying T = some (.array n 5)) (hh : h ≤ n) (hn : 0 < n) :
    (execOp a.eval o).run Try.prog w = .ok (.value (.slice (some ⟨g, 0, none⟩) h n)) w := by
  unfold execOp
  simp only [ho, hx, hy, Option.map_none, Option.map_some, run_slice_hi hu hh hn, Sem.run_bind, Result.andThen_ok, Sem.run_pure]
theorem info31 : (Try.prog.info? 31).map (·.size) = some 2 := by kernel_rfl

set_option maxHeartbeats 1600000 in
theorem Bytes_good {A : Option Addr} {n c : Nat} {k : UInt8} {C l : List UInt8} (w : World) (hC : C.length = 32) (hr : Rd w w.heap.size A n c l) (hk : k ≠ 0) (hn : n ≤ 8192) :
    Calls Try.prog 8 #[.agg (cs8 C).toArray, .agg #[.int .u8 (k.toNat : Int), .slice A n c]] w (IsB w (nextR C k l) (recB C k l)) := by
  have HR := Lib.hid hr
  have HC := Lib.hid hC
  have HK := Lib.hid hk
  have HC8 := Lib.hid (show (cs8 C).length = 32 by rw [cs8_length, hC])
  have hp := recP_length k l
  have hnn := numSize_bd l.length
  have hll := hr.len
  have hpl : (recP k l).length ≤ 8300 := by omega
  have HPL := Lib.hid hpl
  have HP := Lib.hid (show (cs8 (nextR C k l)).length = 32 by rw [cs8_length, nextR_length])
  have HL := Lib.hid (nextR_length C k l)
  have HNX := Lib.hid (fun (W : World) (h : Rd W W.heap.size A n c l) => Next_any k W hC h (by omega))
  have HU := Lib.hid (show recB C k l = recP k l ++ (nextR C k l).take 8 from rfl)
  clear hr hC hk hp hll hnn hpl
  rw [HU.out]
  clear HU
  generalize nextR C k l = S at HP HL HNX ⊢
  go_enter Try.func8, Try.ntmps8
  go_wp2_with (refine wpList_alloc_z rfl 23 rfl z36 zero36 ?_)
  refine (Check_good _ HK.out hn).mono ?_; rintro e w1 ⟨rfl, hb⟩
  have hB1 := Lib.hid (bl_call (bl_alloc (bl_alloc (bl_alloc (bl0 w) (.cells (cs8 C).toArray 23)) (.cells #[.int .u8 (k.toNat : Int), .slice A n c] 31)) (.cells z36.toArray 23)) hb)
  have hZ1 : Hid (Bk w1 (w.heap.size + 1 + 1) z36) := Lib.hid (by
    have := (Bk.new ((w.alloc (.cells (cs8 C).toArray 23)).alloc (.cells #[.int .u8 (k.toNat : Int), .slice A n c] 31)) z36 23).keep hb
    simpa using this)
  have hR1 : Hid (Bk w1 (w.heap.size + 1) [.int .u8 (k.toNat : Int), .slice A n c]) := Lib.hid (by
    have := ((Bk.new (w.alloc (.cells (cs8 C).toArray 23)) [.int .u8 (k.toNat : Int), .slice A n c] 31).old (.cells z36.toArray 23)).keep hb
    simpa using this)
  have hC1 : Hid (Bk w1 w.heap.size (cs8 C)) := Lib.hid ((((Bk.new w (cs8 C) 23).old _).old _).keep hb)
  clear hb
  have hc0 := hR1.out.cell (k := 0) rfl
  have hc1 := hR1.out.cell (k := 1) rfl
  go_wp2_with (first | (refine wpList_load_at rfl 23 _ rfl ⟨w.heap.size, 0, none⟩ rfl (cs8 C) _ hC1.out.at_ Try.underlying23 rfl (by rw [HC8.out]; exact info36) ?_) | fail)
  refine (HNX.out w1 (HR.out.top hB1.out)).mono ?_; rintro e w2 ⟨rfl, hb⟩
  have hB2 := Lib.hid (bl_call hB1.out hb)
  have hZ2 := Lib.hid (hZ1.out.keep hb)
  have hR2 := Lib.hid (hR1.out.keep hb)
  clear hb hZ1 hR1 hC1 hB1 hc0 hc1
  have hN3 := Lib.hid (Bk.new w2 z36 23)
  have hz2 := hZ2.out.lt
  go_wp2_with (first | (refine wpList_alloc_z rfl 23 rfl z36 zero36 ?_) | (refine wpList_store_bk rfl 23 _ _ rfl w2.heap.size rfl (cs8 S) z36 rfl hN3.out (by rw [HP.out]; exact info36) (by rw [HP.out]; exact len_z36) (cs8_all _) ?_))
  have hN4 := Lib.hid (hN3.out.setRow (cs8 S))
  have hB4 := Lib.hid (bl_setRow (bl_alloc hB2.out (.cells z36.toArray 23)) hB2.out.size (cs8 S).toArray)
  have hZ4 := Lib.hid ((hZ2.out.old (.cells z36.toArray 23)).other (show w.heap.size + 1 + 1 ≠ w2.heap.size by omega) (cs8 S).toArray)
  have hR4 := Lib.hid ((hR2.out.old (.cells z36.toArray 23)).other (show w.heap.size + 1 ≠ w2.heap.size by omega) (cs8 S).toArray)
  have hz4 : w2.heap.size < ((w2.alloc (.cells z36.toArray 23)).setRow w2.heap.size (cs8 S).toArray).heap.size := hN4.out.lt
  generalize (w2.alloc (.cells z36.toArray 23)).setRow w2.heap.size (cs8 S).toArray = w4 at hN4 hB4 hZ4 hR4 hz4 ⊢
  generalize w2.heap.size = G at hN4 hz2 hz4 ⊢
  clear hN3 hZ2 hR2 hB2
  try simp only [Act.put, List.getElem_toArray, List.getElem_cons_succ, List.getElem_cons_zero, List.setIfInBounds_toArray, List.set_cons_zero, List.set_cons_succ]
  have hR := Kp.stays (gt (w.heap.size + 1 + 1) w4.heap.size)
  refine reg_start (Kp (gt (w.heap.size + 1 + 1) w4.heap.size)) follows_mixed ?_
  have hB5 := Lib.hid hB4.out.drew
  have hN5 := Lib.hid hN4.out.drew
  have hZ5 := Lib.hid hZ4.out.drew
  have hR5 := Lib.hid hR4.out.drew
  have hz5 : w4.drew.heap.size = w4.heap.size := rfl
  clear hB4 hN4 hZ4 hR4
  generalize w4.drew = w5 at hB5 hN5 hZ5 hR5 hz5 ⊢
  generalize w4.heap.size = T at hz4 hz5 hR ⊢
  refine reg_take (v := .agg #[.int .u8 (k.toNat : Int), .slice A n c]) hR 0 rfl (by kernel_rfl) (by kernel_rfl) (by kernel_rfl) (fun _ _ _ h => h) (by rfl) ?_ ?_
  · intro W hW; exact exec_load_at 31 _ rfl ⟨w.heap.size + 1, 0, none⟩ rfl [.int .u8 (k.toNat : Int), .slice A n c] _ (hR5.out.kp hW (by unfold gt; omega)).at_ Try.underlying31 rfl info31
  try simp only [Act.put, List.getElem_toArray, List.getElem_cons_succ, List.getElem_cons_zero, List.setIfInBounds_toArray, List.set_cons_zero, List.set_cons_succ]
  refine reg_take (v := .slice (some ⟨G, 0, none⟩) 8 32) hR 2 rfl (by kernel_rfl) (by kernel_rfl) (by kernel_rfl) (fun _ _ _ h => h) (by rfl) ?_ ?_
  · intro W hW; exact exec_slice_hi _ _ rfl rfl rfl Try.underlying23 (by decide) (by decide)
  try simp only [Act.put, List.getElem_toArray, List.getElem_cons_succ, List.getElem_cons_zero, List.setIfInBounds_toArray, List.set_cons_zero, List.set_cons_succ]
  refine reg_take (v := .agg (cs8 S).toArray) hR 4 rfl (by kernel_rfl) (by kernel_rfl) (by kernel_rfl) (fun _ _ _ h => h) (by rfl) ?_ ?_
  · intro W hW; exact exec_load_at 23 _ rfl ⟨G, 0, none⟩ rfl (cs8 S) _ (hN5.out.kp hW (by unfold gt; omega)).at_ Try.underlying23 rfl (by rw [HP.out]; exact info36)
  try simp only [Act.put, List.getElem_toArray, List.getElem_cons_succ, List.getElem_cons_zero, List.setIfInBounds_toArray, List.set_cons_zero, List.set_cons_succ]
  refine reg_step hR 1 (by kernel_rfl) rfl fun K hK => ?_
  try simp only [Act.put, List.getElem_toArray, List.getElem_cons_succ, List.getElem_cons_zero, List.setIfInBounds_toArray, List.set_cons_zero, List.set_cons_succ]
  go_simp
  refine (content_any k _ (HR.out.top hB5.out) (by omega)).mono ?_; rintro e w6 ⟨v6, rfl, ho6, hb6⟩
  refine hK.out _ _ (Kp.of_old hb6) ?_
  have hB6 := Lib.hid (bl_call hB5.out hb6)
  have hN6 := Lib.hid (hN5.out.keep hb6)
  have hZ6 := Lib.hid (hZ5.out.keep hb6)
  have hO6 := Lib.hid ho6
  have hz6 := hb6.size
  clear hb6 ho6 hB5 hN5 hZ5 hR5
  clear hK K
  try simp only [Act.put, List.getElem_toArray, List.getElem_cons_succ, List.getElem_cons_zero, List.setIfInBounds_toArray, List.set_cons_zero, List.set_cons_succ]
  refine reg_step hR 3 (by kernel_rfl) rfl fun K hK => ?_
  try simp only [Act.put, List.getElem_toArray, List.getElem_cons_succ, List.getElem_cons_zero, List.setIfInBounds_toArray, List.set_cons_zero, List.set_cons_succ]
  rw [if_pos (by rfl)]
  refine wp_app _ _ rfl rfl hO6.out rfl ((hN6.out.sl HL.out).rd.take_ (k := 8) (by decide)) (by have := HPL.out; omega) (by omega) ?_
  intro v7 w7 ho7 hg7
  have hk7 : Kp (gt (w.heap.size + 1 + 1) T) w6 w7 := kp_grown hg7 (fun k hk => by have := (World.ownsRow.lt hO6.out k hk).1; unfold gt; omega)
  refine hK.out _ _ hk7 ?_
  have hO7 := Lib.hid ho7
  have hN7 := Lib.hid (hN6.out.grown hg7 (fun e => by have := (World.ownsRow.lt hO6.out _ e).1; omega))
  have hZ7 := Lib.hid (hZ6.out.grown hg7 (fun e => by have := (World.ownsRow.lt hO6.out _ e).1; omega))
  have hB7 := Lib.hid (hB6.out.grown hg7 hB6.out.size (fun k hk => by have := (World.ownsRow.lt hO6.out k hk).1; have := hB6.out.size; omega))
  have hne : v7.ownBlock ≠ some (w.heap.size + 1 + 1) := fun e => by have := (World.ownsRow.lt hO7.out _ e).1; omega
  clear hg7 ho7 hk7 hO6 hB6 hN6 hZ6
  clear hK K
  try simp only [Act.put, List.getElem_toArray, List.getElem_cons_succ, List.getElem_cons_zero, List.setIfInBounds_toArray, List.set_cons_zero, List.set_cons_succ]
  refine reg_take (v := v7) hR 5 rfl (by kernel_rfl) (by kernel_rfl) (by kernel_rfl) (fun _ _ _ h => h) (by rfl) ?_ ?_
  · intro W hW; go_simp; try with_reducible rfl
  try simp only [Act.put, List.getElem_toArray, List.getElem_cons_succ, List.getElem_cons_zero, List.setIfInBounds_toArray, List.set_cons_zero, List.set_cons_succ]
  refine reg_step hR 6 (by kernel_rfl) rfl fun K hK => ?_
  try simp only [Act.put, List.getElem_toArray, List.getElem_cons_succ, List.getElem_cons_zero, List.setIfInBounds_toArray, List.set_cons_zero, List.set_cons_succ]
  rw [if_pos (by rfl)]
  refine wp_store_bk 23 _ _ rfl (w.heap.size + 1 + 1) rfl (cs8 S) z36 rfl hZ7.out (by rw [HP.out]; exact info36) (by rw [HP.out]; exact len_z36) (cs8_all _) ?_
  refine hK.out _ _ (kp_setRow _ _ _ (by unfold gt; omega)) ?_
  clear hK K
  try simp only [Act.put, List.getElem_toArray, List.getElem_cons_succ, List.getElem_cons_zero, List.setIfInBounds_toArray, List.set_cons_zero, List.set_cons_succ]
  refine reg_take (v := .int .i64 0) hR 7 rfl (by kernel_rfl) (by kernel_rfl) (by kernel_rfl) (fun _ _ _ h => h) (by rfl) ?_ ?_
  · intro W hW; go_simp; try with_reducible rfl
  try simp only [Act.put, List.getElem_toArray, List.getElem_cons_succ, List.getElem_cons_zero, List.setIfInBounds_toArray, List.set_cons_zero, List.set_cons_succ]
  refine reg_done (by kernel_rfl) ?_ _
  have hZ8 := Lib.hid (hZ7.out.setRow (cs8 S))
  have hO8 := Lib.hid (hO7.out.setRow hne (cs8 S).toArray)
  have hB8 := Lib.hid (bl_setRow hB7.out (show w.heap.size ≤ w.heap.size + 1 + 1 by omega) (cs8 S).toArray)
  go_wp2
  exact ret_tct rfl rfl rfl (load_bk hZ8.out Try.underlying23 rfl (by rw [HP.out]; exact info36)) ⟨v7, rfl, hO8.out.lower (by omega), hB8.out⟩
end Go.Proofs.Ytjaoaikcmbfnmaa
