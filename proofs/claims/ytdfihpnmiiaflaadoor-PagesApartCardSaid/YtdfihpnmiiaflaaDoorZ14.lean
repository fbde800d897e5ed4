/- Texts of this claim, one behind the other: PPc, PPd, PPe, PPf. -/
import Derived.Test.YtdfihpnmiiaflaaDoorZ13
import Derived.Test.YtdfihpnmiiaflaaDoorZ08
import Derived.LoopN
set_option linter.unusedSimpArgs false
set_option linter.unusedVariables false
section
/- A page file: how many are spare; a page written; a page joined. -/
namespace Go.Proofs.YtdfihpnmiiaflaaDoor
set_option maxRecDepth 8192
set_option linter.unusedSimpArgs false
set_option linter.unusedVariables false
open Go.RowKit Go.Maps

section
variable {w w' : World} {q g p s m : Nat} {B : List UInt8} {C : Ca} {W : List Nat} {U : List Bool}
theorem spare_pg (h : Pg w q g p s m B C W U) : Calls Tryd.prog 14 #[ptr q] w fun e w' => e = .returned (.int .i64 ((U.length - U.count true : Nat) : Int)) ∧ w' = w.drew := by
  have HM := Lib.hid (made_pg h)
  have HS := Lib.hid (size_b h.hb.drew h.hW.lt (by have := h.wl; omega))
  rw [h.hW.count] at HS
  have hc := List.count_le_length (a := true) (l := U)
  have hu := h.ul
  have c1 := h.drew.c1
  have c2 := h.drew.c2
  clear h
  generalize U.count true = n at *
  generalize U.length = k at *
  go_enter Tryd.func14, Tryd.ntmps14
  go_wp2_with (go_at_call 29; refine HM.out.mono ?_; rintro e w' ⟨rfl, hw⟩; subst w')
  refine wp_region_still_tail 10 (by kernel_rfl) (by kernel_rfl) ?_
  simp only [List.take_succ_cons, List.take_zero, List.drop_succ_cons, List.drop_zero]
  iterate 8 still_step
  refine wpStill_step (fun K hK => ?_)
  go_simp
  refine ⟨_, HS.out, hK _ ?_⟩
  clear hK K
  still_step
  refine wpStill_nil ?_
  change wpList _ _ _ _ _ w.drew
  go_wp2
  go_ret
  have HE : IntKind.i64.wrap ((k : Int) - (n : Int)) = ((k - n : Nat) : Int) := by simp [IntKind.wrap, IntKind.signed, IntKind.bits]; omega
  rw [HE]
  exact ⟨rfl, rfl⟩
theorem exec_slice70 {o : Oper} {a : Act} {w : World} {k g : Nat} {i : Int} (x y : Operand) (ho : o.op = .slice 70 x (some y) none none) (hx : a.eval x = .pointer (some ⟨g, 0, none⟩)) (hy : a.eval y = .int .i64 i) (hi : i = (k : Int)) (hk : k < 512) :
    (execOp a.eval o).run Tryd.prog w = .ok (.value (.slice (some ⟨g, k, none⟩) (512 - k) (512 - k))) w := by
  have hr := run_slice_lo (g := g) Tryd.underlying70 hk i hi w
  unfold execOp
  simp only [ho, hx, hy, Option.map_none, Option.map_some, hr, Sem.run_bind, Result.andThen_ok, Sem.run_pure]
theorem wrt {D : List UInt8} {i : Int} {k top c : Nat} {A : Option Addr} (h : Dk w p s m B C) (hr : Rd w top A 256 c D) (hk : k < C.length) (hi : i = (k : Int)) :
    Calls Tryd.prog 25 #[ptr p, .int .i64 i, .slice A 256 c] w fun e w' => e = .returned (.int .i64 0) ∧ Dk w' p s m B (C.set k (some D)) ∧ Kp (· = m) w w' := by subst hi; exact write_ok h k hk hr
theorem write_pg (h : Pg w q g p s m B C W U) (n : Nat) (hn : n < U.length) (X : List UInt8) (hX : X.length = 512) :
    Calls Tryd.prog 34 #[ptr q, .int .i64 (n : Int), .agg (cs8 X).toArray] w fun e w' => e = .returned (.int .i64 0) ∧ Pg w' q g p s m B ((C.set (2 * n) (some (X.take 256))).set (2 * n + 1) (some (X.drop 256))) W U ∧ Kp (· = m) w w' := by
  have HG := Lib.hid h
  clear h
  have HB1 := Lib.hid (bl_alloc (bl0 w) (.cells (cs8 X).toArray 70))
  have HX := Lib.hid (Bk.new w (cs8 X) 70)
  have HXl := Lib.hid hX
  have HG1 := Lib.hid (HG.out.old HB1.out)
  have hcl : 2 * n + 1 < C.length := by have := HG.out.hn; omega
  have hul := HG.out.ul
  clear hX
  go_enter Tryd.func34, Tryd.ntmps34
  go_wp2
  generalize w.alloc (.cells (cs8 X).toArray 70) = T at HG1 HX HB1 ⊢
  have c0 := HG1.out.drew.c0
  refine wp_loop_rounds 3 ?_
  rw [rounds_succ]
  go_wp2
  refine wp_region_still_tail 12 (by kernel_rfl) (by kernel_rfl) ?_
  simp only [List.take_succ_cons, List.take_zero, List.drop_succ_cons, List.drop_zero]
  iterate 10 still_step
  refine still_val rfl (exec_slice70 (k := 0) _ _ rfl rfl rfl (by decide) (by decide)) ?_
  still_step
  refine wpStill_nil ?_
  change wpList _ _ _ _ _ T.drew
  have HXa : Hid (Rd T.drew T.drew.heap.size (some ⟨w.heap.size, 0, none⟩) 256 512 (X.take 256)) := Lib.hid (by
    have h1 := HX.out.lt
    obtain ⟨t, h2⟩ := HX.out.drew
    have := Rd.of_block (w := T.drew) (l := X) (top := T.drew.heap.size) h2 h1
    rw [HXl.out] at this
    exact this.take_ (by omega))
  go_wp2_with fail
  refine (wrt HG1.out.drew.hd HXa.out (k := 2 * n) (by omega) ?hi).mono ?_
  case hi => simp [IntKind.wrap, IntKind.signed, IntKind.bits]
  rintro e T1 ⟨rfl, hd1, hk1⟩
  have HG2 := Lib.hid (HG1.out.drew.disk hd1 (by simp) (hk1.mono (fun _ e => .inr e)))
  have HK1 := Lib.hid hk1.undrew
  clear hd1 hk1
  have HX1 : Hid (Bk T1 w.heap.size (cs8 X)) := Lib.hid (by
    obtain ⟨t, h2⟩ := HX.out
    have := HG.out.hd.mlt
    exact ⟨t, (HK1.out.block _ HX.out.lt (by omega)).trans h2⟩)
  have c01 := HG2.out.drew.c0
  go_wp2
  rw [rounds_succ]
  go_wp2
  refine wp_region_still_tail 12 (by kernel_rfl) (by kernel_rfl) ?_
  simp only [List.take_succ_cons, List.take_zero, List.drop_succ_cons, List.drop_zero]
  iterate 10 still_step
  refine still_val rfl (exec_slice70 (k := 256) _ _ rfl rfl rfl (by decide) (by decide)) ?_
  still_step
  refine wpStill_nil ?_
  change wpList _ _ _ _ _ T1.drew
  have HXb : Hid (Rd T1.drew T1.drew.heap.size (some ⟨w.heap.size, 256, none⟩) 256 256 (X.drop 256)) := Lib.hid (by
    have := (Sl.of_block HX1.out.drew (k := 256) (by rw [HXl.out]; omega)).1
    rw [HXl.out] at this
    exact this)
  go_wp2_with fail
  refine (wrt HG2.out.drew.hd HXb.out (k := 2 * n + 1) (by rw [List.length_set]; omega) ?hi).mono ?_
  case hi => simp [IntKind.wrap, IntKind.signed, IntKind.bits]
  rintro e T2 ⟨rfl, hd2, hk2⟩
  have HG3 := Lib.hid (HG2.out.drew.disk hd2 (by simp) (hk2.mono (fun _ e => .inr e)))
  have HK2 := Lib.hid hk2.undrew
  clear hd2 hk2
  go_wp2
  rw [rounds_succ]
  go_wp2
  go_ret
  exact ⟨rfl, HG3.out, ((Kp.of_old HB1.out).trans HK1.out).trans HK2.out⟩
theorem rdt {i : Int} {k : Nat} (h : Dk w p s m B C) (hk : k < C.length) (hi : i = (k : Int)) :
    Calls Tryd.prog 46 #[ptr p, .int .i64 i] w fun e w' => e = .returned (.tuple #[.slice (some ⟨w.heap.size, 0, none⟩) 256 256, .int .i64 0]) ∧ Rd w' w'.heap.size (some ⟨w.heap.size, 0, none⟩) 256 256 (look B C k) ∧ Below w.heap.size w w' := by subst hi; exact read_ok h k hk
/-- A page's bytes as they are read. -/
def pageAt (B : List UInt8) (C : Ca) (n : Nat) : List UInt8 := look B C (2 * n) ++ look B C (2 * n + 1)
set_option maxHeartbeats 800000 in
theorem joined_pg (h : Pg w q g p s m B C W U) (n : Nat) (hn : n < U.length) :
    Calls Tryd.prog 31 #[ptr q, .int .i64 (n : Int)] w fun e w' => e = .returned (.agg (cs8 (pageAt B C n)).toArray) ∧ (pageAt B C n).length = 512 ∧ Below w.heap.size w w' := by
  obtain ⟨Z, hZ⟩ : ∃ Z : List UInt8, Z = List.replicate 512 0 := ⟨_, rfl⟩
  have hz : ∀ w, (zeroValue 70).run Tryd.prog w = .ok (.agg (cs8 Z).toArray) w := by rw [hZ]; exact zero70
  have hZl : Z.length = 512 := by rw [hZ]; simp
  have HZZ := Lib.hid hz
  have HZL := Lib.hid hZl
  clear hz hZ hZl
  have HB2 := Lib.hid (bl_alloc (bl_alloc (bl0 w) (.cells (cs8 Z).toArray 70)) (.cells (cs8 Z).toArray 70))
  have HK0 := Lib.hid (((Bk.new w (cs8 Z) 70).old (.cells (cs8 Z).toArray 70)))
  have HK1 : Hid (Bk ((w.alloc (.cells (cs8 Z).toArray 70)).alloc (.cells (cs8 Z).toArray 70)) (w.heap.size + 1) (cs8 Z)) := Lib.hid (by have := Bk.new (w.alloc (.cells (cs8 Z).toArray 70)) (cs8 Z) 70; simpa using this)
  have HG := Lib.hid (h.old HB2.out)
  have hcl : 2 * n + 1 < C.length := by have := h.hn; omega
  have hul := h.ul
  have HG0 := Lib.hid h
  clear h
  go_enter Tryd.func31, Tryd.ntmps31
  go_wp2_with (refine wpList_alloc_z rfl 70 rfl (cs8 Z) HZZ.out ?_)
  generalize hT : (w.alloc (.cells (cs8 Z).toArray 70)).alloc (.cells (cs8 Z).toArray 70) = T at HB2 HK0 HK1 HG ⊢
  clear hT
  have c0 := HG.out.c0
  refine wp_loop_rounds 3 ?_
  rw [rounds_succ]
  go_wp2_with fail
  refine (rdt HG.out.hd (k := 2 * n) (by omega) ?hi).mono ?_
  case hi => simp [IntKind.wrap, IntKind.signed, IntKind.bits]
  rintro e T1 ⟨rfl, hr1, hb1⟩
  have HR1 := Lib.hid hr1
  have HBB1 := Lib.hid hb1
  clear hr1 hb1
  have HK01 := Lib.hid (HK0.out.keep HBB1.out)
  have HK11 := Lib.hid (HK1.out.keep HBB1.out)
  have HG1 := Lib.hid (HG.out.old HBB1.out)
  have hT1 : w.heap.size + 1 < T.heap.size := HK1.out.lt
  have hTs := HBB1.out.size
  have hl1 := HR1.out.len
  go_wp2_with (refine wpList_copyAt (off := 0) (m := 256) rfl _ _ rfl rfl rfl HR1.out HK11.out (by omega) (by rw [HZL.out]; omega) ?_; intro T2 hk2 ho2; have HK12 := Lib.hid hk2; have HO2 := Lib.hid ho2; clear hk2 ho2)
  have HBa : Hid (Below w.heap.size w T2) := Lib.hid (bl_only (HB2.out.trans (HBB1.out.mono (by omega))) HO2.out (by omega))
  have hne : ∀ b, b < w.heap.size → b ≠ w.heap.size + 1 := fun b h => by omega
  have HG2 : Hid (Pg T2 q g p s m B C W U) := Lib.hid (by
    have h1 := HG0.out.qlt; have h2 := HG0.out.hb.lt; have h3 := HG0.out.hd.plt; have h4 := HG0.out.hd.slt; have h5 := HG0.out.hd.mlt
    exact HG1.out.kp (Kp.of_only HO2.out) (by omega) (by omega) (by omega) (by omega) (by omega))
  have HK02 : Hid (Bk T2 w.heap.size (cs8 Z)) := Lib.hid (by
    obtain ⟨t, h2⟩ := HK01.out
    exact ⟨t, (HO2.out.block _ HK01.out.lt (by simp)).trans h2⟩)
  have HKE : Hid (Bk T2 (w.heap.size + 1) (cs8 (look B C (2 * n) ++ Z.drop 256))) := Lib.hid (by
    have := HK12.out
    rw [List.take_zero, List.nil_append, List.take_of_length_le (by omega), Nat.zero_add] at this
    exact this)
  have HLl := Lib.hid hl1
  clear HG HK0 HK1 HG1 HK01 HK11 HK12 HO2 HR1 hl1 HBB1
  have c02 := HG2.out.c0
  have HPE := Lib.hid (show pageAt B C n = look B C (2 * n) ++ look B C (2 * n + 1) from rfl)
  generalize look B C (2 * n) = L0 at *
  rw [rounds_succ]
  go_wp2_with fail
  refine (rdt HG2.out.hd (k := 2 * n + 1) (by omega) ?hi).mono ?_
  case hi => simp [IntKind.wrap, IntKind.signed, IntKind.bits]; try omega
  rintro e T3 ⟨rfl, hr3, hb3⟩
  have HR3 := Lib.hid hr3
  have HB3 := Lib.hid hb3
  clear hr3 hb3
  have HK03 := Lib.hid (HK02.out.keep HB3.out)
  have HK13 := Lib.hid (HKE.out.keep HB3.out)
  have hl3 := HR3.out.len
  have hT2s := HBa.out.size
  have hT3s := HB3.out.size
  go_wp2_with (refine wpList_copyAt (off := 256) (m := 256) rfl _ _ rfl rfl rfl HR3.out HK13.out (by omega) (by rw [List.length_append, HLl.out, List.length_drop, HZL.out]; omega) ?_; intro T4 hk4 ho4; have HK14 := Lib.hid hk4; have HO4 := Lib.hid ho4; clear hk4 ho4)
  have HBb : Hid (Below w.heap.size w T4) := Lib.hid (bl_only (HBa.out.trans (HB3.out.mono (by omega))) HO4.out (by omega))
  have HK04 : Hid (Bk T4 w.heap.size (cs8 Z)) := Lib.hid (by
    obtain ⟨t, h2⟩ := HK03.out
    exact ⟨t, (HO4.out.block _ HK03.out.lt (by simp)).trans h2⟩)
  have HKF : Hid (Bk T4 (w.heap.size + 1) (cs8 (L0 ++ look B C (2 * n + 1)))) := Lib.hid (by
    have := HK14.out
    rw [List.take_append_of_le_length (by rw [HLl.out]; omega), List.take_of_length_le (by rw [HLl.out]; omega), List.take_of_length_le (by omega), List.drop_eq_nil_of_le (by rw [List.length_append, HLl.out, List.length_drop, HZL.out]; omega), List.append_nil] at this
    exact this)
  have HLL : Hid ((L0 ++ look B C (2 * n + 1)).length = 512) := Lib.hid (by rw [List.length_append, HLl.out, hl3])
  have HPGl : Hid ((cs8 (L0 ++ look B C (2 * n + 1))).length = 512) := Lib.hid (by rw [cs8_length, HLL.out])
  obtain ⟨t5, hg5⟩ := HKF.out
  have HG6 := Lib.hid hg5
  clear hg5 hl3 HK14 HKF HK03 HK13 HR3 HKE HK02 HG2 HO4
  rw [rounds_succ]
  go_wp2_with (first | (refine wpList_load_row rfl 70 _ rfl (w.heap.size + 1) rfl t5 _ (0, 0) _ HG6.out Tryd.underlying70 rfl (by rw [List.size_toArray, HPGl.out]; exact info70) ?_) | (refine wpList_store_bk rfl 70 _ _ rfl w.heap.size rfl (cs8 (L0 ++ look B C (2 * n + 1))) (cs8 Z) rfl HK04.out (by rw [HPGl.out]; exact info70) (by rw [HPGl.out, cs8_length, HZL.out]) (cs8_all _) ?_))
  exact ret_bk rfl w.heap.size _ _ rfl rfl (HK04.out.setRow _) Tryd.underlying70 rfl (by rw [HPGl.out]; exact info70) ⟨by rw [HPE.out], by rw [HPE.out]; exact HLL.out, bl_setRow HBb.out (Nat.le_refl _) _⟩
end
end Go.Proofs.YtdfihpnmiiaflaaDoor
end
section
/- A page file: Read. -/
namespace Go.Proofs.YtdfihpnmiiaflaaDoor
set_option maxRecDepth 8192
set_option linter.unusedSimpArgs false
set_option linter.unusedVariables false
open Go.RowKit Go.Maps

/-- What Read answers of a page's bytes. -/
def goodP (k : Nat) (X : List UInt8) : Prop := X = pageB k (X.drop 12)
instance (k : Nat) (X : List UInt8) : Decidable (goodP k X) := inferInstanceAs (Decidable (_ = _))
section
variable {w w' : World} {q g p s m : Nat} {B : List UInt8} {C : Ca} {W : List Nat} {U : List Bool}
theorem has_not (h : Pg w q g p s m B C W U) (n : Int) (h1 : -9223372036854775808 ≤ n) (h2 : n ≤ 9223372036854775807) (hc : ¬ (0 ≤ n ∧ U.getD n.toNat false = true)) :
    Calls Tryd.prog 30 #[bmv g W.length, .int .i64 n] w fun e w' => e = .returned (.bool false) ∧ w' = w := by
  have HH := has_b h.hb h.hW (by have := h.wl; omega) n h1 h2
  have : (decide (0 ≤ n) && U.getD n.toNat false) = false := by
    by_cases h0 : 0 ≤ n
    · have : ¬ U.getD n.toNat false = true := fun e => hc ⟨h0, e⟩
      simp only [Bool.not_eq_true] at this
      rw [this]; simp
    · simp [h0]
  rw [this] at HH
  exact HH
theorem has_yes (h : Pg w q g p s m B C W U) (k : Nat) (hc : U.getD k false = true) :
    Calls Tryd.prog 30 #[bmv g W.length, .int .i64 (k : Int)] w fun e w' => e = .returned (.bool true) ∧ w' = w := by
  have hk := used_lt hc
  have hu := h.ul
  have HH := has_b h.hb h.hW (by have := h.wl; omega) (k : Int) (by omega) (by omega)
  rw [Int.toNat_natCast, hc] at HH
  simpa using HH
theorem read_not (h : Pg w q g p s m B C W U) (n : Int) (h1 : -9223372036854775808 ≤ n) (h2 : n ≤ 9223372036854775807) (hc : ¬ (0 ≤ n ∧ U.getD n.toNat false = true)) :
    Calls Tryd.prog 9 #[ptr q, .int .i64 n] w fun e w' => e = .returned (.tuple #[.slice none 0 0, .int .i64 6]) ∧ w' = w := by
  have HM := Lib.hid (made_pg h)
  have HH := Lib.hid (has_not h n h1 h2 hc)
  have c2 := h.c2
  clear h hc
  go_enter Tryd.func9, Tryd.ntmps9
  go_wp2_with (first | (go_at_call 29; refine HM.out.mono ?_; rintro e w' ⟨rfl, hw⟩; subst w') | (go_at_call 30; refine HH.out.mono ?_; rintro e w' ⟨rfl, hw⟩; subst w'))
  go_ret2
  exact ⟨rfl, rfl⟩
/-- Read of a page in use. -/
def ReadG (w : World) (k : Nat) (X : List UInt8) (e : Ending) (w' : World) : Prop :=
  (if goodP k X then ∃ A, e = .returned (.tuple #[.slice (some A) 500 500, .int .i64 0]) ∧ w.heap.size ≤ A.block ∧ Sl w' w'.heap.size (some A) 500 500 (X.drop 12) else e = .returned (.tuple #[.slice none 0 0, .int .i64 4])) ∧ Below w.heap.size w w'
set_option maxHeartbeats 800000 in
theorem read_pg (h : Pg w q g p s m B C W U) (k : Nat) (hc : U.getD k false = true) : Calls Tryd.prog 9 #[ptr q, .int .i64 (k : Int)] w (ReadG w k (pageAt B C k)) := by
  have hk := used_lt hc
  have hu := h.ul
  have HM := Lib.hid (made_pg h)
  have HH := Lib.hid (has_yes h k hc)
  have HJ := Lib.hid (joined_pg h k hk)
  have c2 := h.c2
  clear h hc
  generalize pageAt B C k = X at *
  go_enter Tryd.func9, Tryd.ntmps9
  go_wp2_with (first | (go_at_call 29; refine HM.out.mono ?_; rintro e w' ⟨rfl, hw⟩; subst w') | (go_at_call 30; refine HH.out.mono ?_; rintro e w' ⟨rfl, hw⟩; subst w') | fail)
  refine HJ.out.mono ?_; rintro e T ⟨rfl, hXl, hb⟩
  have HXL := Lib.hid hXl
  have HBT := Lib.hid hb
  have HXC : Hid ((cs8 X).length = 512) := Lib.hid (by rw [cs8_length, hXl])
  clear hXl hb
  obtain ⟨Z, hZ⟩ : ∃ Z : List UInt8, Z = List.replicate 512 0 := ⟨_, rfl⟩
  have HZZ : Hid (∀ w, (zeroValue 70).run Tryd.prog w = .ok (.agg (cs8 Z).toArray) w) := Lib.hid (by rw [hZ]; exact zero70)
  have HZL : Hid (Z.length = 512) := Lib.hid (by rw [hZ]; simp)
  clear hZ
  obtain ⟨Y, hY⟩ : ∃ Y, Y = pageB k (X.drop 12) := ⟨_, rfl⟩
  have HYY := Lib.hid hY.symm
  have HYL : Hid (Y.length = 512) := Lib.hid (by rw [hY]; exact pageB_length (by rw [List.length_drop, HXL.out]; omega))
  clear hY
  have HXB := Lib.hid ((Bk.new T (cs8 Z) 70).setRow (cs8 X))
  have HB2 := Lib.hid (bl_setRow (bl_alloc (bl0 T) (.cells (cs8 Z).toArray 70)) (Nat.le_refl _) (cs8 X).toArray)
  go_wp2_with (first | (refine wpList_alloc_z rfl 70 rfl (cs8 Z) HZZ.out ?_) | (refine wpList_store_bk rfl 70 _ _ rfl T.heap.size rfl (cs8 X) (cs8 Z) rfl (Bk.new T _ 70) (by rw [HXC.out]; exact info70) (by rw [HXC.out, cs8_length, HZL.out]) (cs8_all _) ?_))
  generalize hT2 : (T.alloc (.cells (cs8 Z).toArray 70)).setRow T.heap.size (cs8 X).toArray = T2 at HXB HB2 ⊢
  clear hT2
  have HS : Hid (∀ W, Below T2.heap.size T2 W → Sl W W.heap.size (some ⟨T.heap.size, 12, none⟩) 500 500 (X.drop 12)) := Lib.hid (fun W hW => by
    have := Sl.of_block (HXB.out.keep hW) (k := 12) (by rw [HXL.out]; omega)
    rw [HXL.out] at this
    exact this)
  refine region_meetQ (fun a0 a' w' => a' = puts a0 [(22, .agg (cs8 X).toArray), (23, .int .i64 (k : Int)), (24, .slice (some ⟨T.heap.size, 12, none⟩) 500 500), (25, .agg (cs8 Y).toArray), (26, .bool (!decide (X = Y)))] ∧ Hid (Below T2.heap.size T2 w')) ?_ ?_
  · have hR := Sb.stays T2.heap.size
    refine reg_start (Sb T2.heap.size) follows_mixed ?_
    have HB := Lib.hid (Below.refl T2.heap.size T2).drew
    generalize T2.drew = u0 at HB ⊢
    refine reg_take (v := .agg (cs8 X).toArray) hR 0 rfl (by kernel_rfl) (by kernel_rfl) (by kernel_rfl) (fun _ _ _ h => by cases h.1) (by rfl) ?_ ?_
    · intro W hW; exact exec_load_at 70 _ rfl _ rfl (cs8 X) _ ((HXB.out.keep (HB.out.trans hW)).at_) Tryd.underlying70 rfl (by rw [HXC.out]; exact info70)
    try simp only [Act.put, List.getElem_toArray, List.getElem_cons_succ, List.getElem_cons_zero, List.setIfInBounds_toArray, List.set_cons_zero, List.set_cons_succ]
    refine reg_take (v := .int .i64 (k : Int)) hR 1 rfl (by kernel_rfl) (by kernel_rfl) (by kernel_rfl) (fun _ _ _ h => by cases h.1) (by rfl) ?_ ?_
    · intro W hW; go_simp; try with_reducible rfl
    try simp only [Act.put, List.getElem_toArray, List.getElem_cons_succ, List.getElem_cons_zero, List.setIfInBounds_toArray, List.set_cons_zero, List.set_cons_succ]
    refine reg_take (v := .slice (some ⟨T.heap.size, 12, none⟩) 500 500) hR 2 rfl (by kernel_rfl) (by kernel_rfl) (by kernel_rfl) (fun _ _ _ h => by cases h.1) (by rfl) ?_ ?_
    · intro W hW; go_simp; try with_reducible rfl
    try simp only [Act.put, List.getElem_toArray, List.getElem_cons_succ, List.getElem_cons_zero, List.setIfInBounds_toArray, List.set_cons_zero, List.set_cons_succ]
    refine reg_step hR 3 (by kernel_rfl) rfl fun K hK => ?_
    try simp only [Act.put, List.getElem_toArray, List.getElem_cons_succ, List.getElem_cons_zero, List.setIfInBounds_toArray, List.set_cons_zero, List.set_cons_succ]
    rw [if_pos (by rfl)]
    go_simp
    refine (whole_any k u0 (HS.out _ HB.out).1 (by omega) (by omega)).mono ?_; rintro e u1 ⟨rfl, hb⟩
    rw [HYY.out]
    refine hK.out _ _ (show Below _ _ _ from hb.mono HB.out.size) ?_
    clear hK K
    replace HB := Lib.hid (HB.out.trans (hb.mono HB.out.size))
    clear hb
    try simp only [Act.put, List.getElem_toArray, List.getElem_cons_succ, List.getElem_cons_zero, List.setIfInBounds_toArray, List.set_cons_zero, List.set_cons_succ]
    refine reg_take (v := .bool (!decide (X = Y))) hR 4 rfl (by kernel_rfl) (by kernel_rfl) (by kernel_rfl) (fun _ _ _ h => by cases h.1) (by rfl) ?_ ?_
    · intro W hW; exact exec_neq 70 512 Tryd.underlying70 _ _ rfl (by kernel_rfl) HXL.out HYL.out rfl rfl
    try simp only [Act.put, List.getElem_toArray, List.getElem_cons_succ, List.getElem_cons_zero, List.setIfInBounds_toArray, List.set_cons_zero, List.set_cons_succ]
    refine reg_done (by kernel_rfl) ?_ _
    refine ⟨rfl, ?_, HB⟩
    simp only [puts, List.foldl_cons, List.foldl_nil, Act.put, List.getElem_toArray, List.getElem_cons_succ, List.getElem_cons_zero, List.setIfInBounds_toArray, List.set_cons_zero, List.set_cons_succ]
  rintro a' w' ⟨rfl, HB⟩
  simp only [puts, List.foldl_cons, List.foldl_nil, Act.put, List.getElem_toArray, List.getElem_cons_succ, List.getElem_cons_zero, List.setIfInBounds_toArray, List.set_cons_zero, List.set_cons_succ]
  have HBF : Hid (Below w.heap.size w w') := Lib.hid (HBT.out.trans ((HB2.out.trans (HB.out.mono HB2.out.size)).mono HBT.out.size))
  have HTs := HBT.out.size
  by_cases hXY : X = Y
  · have HT : Hid ((!decide (X = Y)) = false) := Lib.hid (by simp [hXY])
    have HGd : Hid (goodP k X) := Lib.hid (by unfold goodP; rw [HYY.out]; exact hXY)
    clear hXY
    rw [HT.out]
    go_wp2
    go_ret2
    refine ⟨?_, HBF.out⟩
    rw [if_pos HGd.out]
    exact ⟨_, rfl, by simpa using HTs, HS.out _ HB.out⟩
  · have HT : Hid ((!decide (X = Y)) = true) := Lib.hid (by simp [hXY])
    have HGd : Hid (¬ goodP k X) := Lib.hid (by unfold goodP; rw [HYY.out]; exact hXY)
    clear hXY
    rw [HT.out]
    go_wp2
    go_ret2
    refine ⟨?_, HBF.out⟩
    rw [if_neg HGd.out]
    rfl
end
end Go.Proofs.YtdfihpnmiiaflaaDoor
end
section
/- A page file: New, Bytes. -/
namespace Go.Proofs.YtdfihpnmiiaflaaDoor
set_option maxRecDepth 8192
set_option linter.unusedSimpArgs false
set_option linter.unusedVariables false
open Go.RowKit Go.Maps

/-- What is cached behind a page's write. -/
def putPg (C : Ca) (n : Nat) (X : List UInt8) : Ca := (C.set (2 * n) (some (X.take 256))).set (2 * n + 1) (some (X.drop 256))
theorem putPg_length (C : Ca) (n : Nat) (X : List UInt8) : (putPg C n X).length = C.length := by simp [putPg]
section
variable {w w' : World} {q g p s m : Nat} {B : List UInt8} {C : Ca} {W : List Nat} {U : List Bool}
theorem new_long (h : Pg w q g p s m B C W U) {A : Option Addr} {k c : Nat} (hk : 500 < k) (hk2 : k ≤ 1152921504606846976) :
    Calls Tryd.prog 10 #[ptr q, .slice A k c] w fun e w' => e = .returned (.tuple #[.int .i64 0, .int .i64 2]) ∧ w' = w := by
  have HM := Lib.hid (made_pg h)
  clear h
  have hk3 : (500 : Int) < (k : Int) := by omega
  go_enter Tryd.func10, Tryd.ntmps10
  go_wp2_with (go_at_call 29; refine HM.out.mono ?_; rintro e w' ⟨rfl, hw⟩; subst w')
  go_ret2
  exact ⟨rfl, rfl⟩
theorem new_full (h : Pg w q g p s m B C W U) (hT : Tab w) {A : Option Addr} {k c : Nat} (hk : k ≤ 500) (hf : U.length ≤ U.idxOf false) :
    Calls Tryd.prog 10 #[ptr q, .slice A k c] w fun e w' => e = .returned (.tuple #[.int .i64 0, .int .i64 7]) ∧ w' = w := by
  have HM := Lib.hid (made_pg h)
  have HL := Lib.hid (least_b h.hb hT h.hW.lt (by have := h.wl; omega))
  rw [h.hW.least] at HL
  have c1 := h.c1
  have c2 := h.c2
  clear h hT
  generalize U.idxOf false = n at *
  go_enter Tryd.func10, Tryd.ntmps10
  go_wp2_with (first | (go_at_call 29; refine HM.out.mono ?_; rintro e w' ⟨rfl, hw⟩; subst w') | (go_at_call 33; refine HL.out.mono ?_; rintro e w' ⟨rfl, hw⟩; subst w'))
  go_ret2
  exact ⟨rfl, rfl⟩
theorem new_pg (h : Pg w q g p s m B C W U) (hT : Tab w) {A : Option Addr} {k c : Nat} {b : List UInt8} (hr : Rd w w.heap.size A k c b) (hk : k ≤ 500) (hf : U.idxOf false < U.length) :
    Calls Tryd.prog 10 #[ptr q, .slice A k c] w fun e w' => e = .returned (.tuple #[.int .i64 ((U.idxOf false : Nat) : Int), .int .i64 0]) ∧
      (∃ W', Pg w' q g p s m B (putPg C (U.idxOf false) (pageB (U.idxOf false) b)) W' (U.set (U.idxOf false) true)) ∧ Kp (fun x => x = m ∨ x = g) w w' := by
  have HM := Lib.hid (made_pg h)
  have HL := Lib.hid (least_b h.hb hT h.hW.lt (by have := h.wl; omega))
  rw [h.hW.least] at HL
  have hul := h.ul
  have hbl := hr.len
  have HG := Lib.hid h
  have HR := Lib.hid hr
  have c1 := h.c1
  have c2 := h.c2
  clear h hT hr
  generalize U.idxOf false = n at *
  go_enter Tryd.func10, Tryd.ntmps10
  go_wp2_with (first | (go_at_call 29; refine HM.out.mono ?_; rintro e w' ⟨rfl, hw⟩; subst w') | (go_at_call 33; refine HL.out.mono ?_; rintro e w' ⟨rfl, hw⟩; subst w') | fail)
  refine (whole_any n w HR.out hk (by omega)).mono ?_; rintro e T ⟨rfl, hb⟩
  have HB := Lib.hid hb
  have HG1 := Lib.hid (HG.out.old hb)
  clear hb
  go_wp2_with fail
  refine (write_pg HG1.out n hf (pageB n b) (pageB_length (by omega))).mono ?_; rintro e T1 ⟨rfl, hg1, hk1⟩
  have HG2 := Lib.hid hg1
  have HK1 := Lib.hid hk1
  clear hg1 hk1
  have c22 := HG2.out.c2
  go_wp2_with fail
  refine (add_b HG2.out.hb HG2.out.hW (by have := HG2.out.wl; omega) n hf).mono ?_; rintro e T2 ⟨rfl, hb2, hk2⟩
  have HB2 := Lib.hid hb2
  have HK2 := Lib.hid hk2
  clear hb2 hk2
  go_wp2
  go_ret2
  exact ⟨rfl, ⟨_, HG2.out.bits HB2.out (HG2.out.hW.add hf) (by simp) HK2.out⟩, ((Kp.of_old HB.out).trans (HK1.out.mono (fun _ e => .inl e))).trans (HK2.out.mono (fun _ e => .inr e))⟩
theorem bytes_bad {A : Option Addr} {k c : Nat} (w : World) (n : Int) (hk2 : k ≤ 1152921504606846976) (hc : ¬ (0 ≤ n ∧ n ≤ 2147483647 ∧ k ≤ 500)) :
    Calls Tryd.prog 12 #[.int .i64 n, .slice A k c] w fun e w' => e = .returned (.tuple #[.slice none 0 0, .int .i64 2]) ∧ w' = w := by
  by_cases h0 : n < 0
  · clear hc
    go_enter Tryd.func12, Tryd.ntmps12
    go_wp2
    go_ret2
    exact ⟨rfl, rfl⟩
  · by_cases h1 : 2147483647 < n
    · clear hc
      go_enter Tryd.func12, Tryd.ntmps12
      go_wp2
      go_ret2
      exact ⟨rfl, rfl⟩
    · have h2 : (500 : Int) < (k : Int) := by omega
      clear hc
      go_enter Tryd.func12, Tryd.ntmps12
      go_wp2
      go_ret2
      exact ⟨rfl, rfl⟩
theorem bytes_pg {A : Option Addr} {k c : Nat} {b : List UInt8} (w : World) (n : Nat) (hr : Rd w w.heap.size A k c b) (hk : k ≤ 500) (hn : n ≤ 2147483647) :
    Calls Tryd.prog 12 #[.int .i64 (n : Int), .slice A k c] w fun e w' => ∃ f, e = .returned (.tuple #[.slice (some ⟨f, 0, none⟩) 512 512, .int .i64 0]) ∧ w.heap.size ≤ f ∧ Bk w' f (cs8 (pageB n b)) ∧ Below w.heap.size w w' := by
  have hbl := hr.len
  have HW := Lib.hid (whole_any n w hr hk (by omega))
  have hpl := pageB_length (n := n) (b := b) (by omega)
  have HPL : Hid ((cs8 (pageB n b)).length = 512) := Lib.hid (by rw [cs8_length, hpl])
  obtain ⟨Z, hZ⟩ : ∃ Z : List UInt8, Z = List.replicate 512 0 := ⟨_, rfl⟩
  have HZZ : Hid (∀ w, (zeroValue 70).run Tryd.prog w = .ok (.agg (cs8 Z).toArray) w) := Lib.hid (by rw [hZ]; exact zero70)
  have HZL : Hid (Z.length = 512) := Lib.hid (by rw [hZ]; simp)
  clear hZ hr hpl
  generalize pageB n b = X at *
  have hn2 : (n : Int) ≤ 2147483647 := by omega
  go_enter Tryd.func12, Tryd.ntmps12
  go_wp2_with fail
  refine HW.out.mono ?_; rintro e T ⟨rfl, hb⟩
  have HB := Lib.hid hb
  have hts := hb.size
  clear hb
  have HXB := Lib.hid ((Bk.new T (cs8 Z) 70).setRow (cs8 X))
  have HB2 := Lib.hid (bl_setRow (bl_alloc (bl0 T) (.cells (cs8 Z).toArray 70)) (Nat.le_refl _) (cs8 X).toArray)
  go_wp2_with (first | (refine wpList_alloc_z rfl 70 rfl (cs8 Z) HZZ.out ?_) | (refine wpList_store_bk rfl 70 _ _ rfl T.heap.size rfl (cs8 X) (cs8 Z) rfl (Bk.new T _ 70) (by rw [HPL.out]; exact info70) (by rw [HPL.out, cs8_length, HZL.out]) (cs8_all _) ?_))
  go_ret2
  exact ⟨T.heap.size, rfl, hts, HXB.out, bl_call HB.out HB2.out⟩
end
end Go.Proofs.YtdfihpnmiiaflaaDoor
end
section
/- A page file: Open, Keep. -/
namespace Go.Proofs.YtdfihpnmiiaflaaDoor
set_option maxRecDepth 8192
set_option linter.unusedSimpArgs false
set_option linter.unusedVariables false
open Go.RowKit Go.Maps

/-- The slice (A, n, c) reads, in w, as integers, and lies below block top. -/
def Zi (w : World) (top : Nat) (A : Option Addr) (n c : Nat) (l : List Int) : Prop :=
  l.length = n ∧ n ≤ c ∧ (∀ u ∈ l, -9223372036854775808 ≤ u ∧ u ≤ 9223372036854775807) ∧ (0 < n → ∃ ad, A = some ad ∧ ad.block < top ∧ ∀ (j : Nat) (u : Int), l[j]? = some u → w.cell? (ad.add j) = some (.int .i64 u))
theorem Zi.nil (w : World) (top c : Nat) (A : Option Addr) : Zi w top A 0 c [] := ⟨rfl, Nat.zero_le _, fun _ h => by simp at h, fun h => absurd h (by omega)⟩
theorem Zi.keep {w w' : World} {top n c : Nat} {A : Option Addr} {l : List Int} (h : Zi w top A n c l) (hk : ∀ p : Addr, p.block < top → w'.cell? p = w.cell? p) : Zi w' top A n c l :=
  ⟨h.1, h.2.1, h.2.2.1, fun hn => by
    obtain ⟨ad, e, hb, hc⟩ := h.2.2.2 hn
    exact ⟨ad, e, hb, fun j u hu => (hk _ (by rw [add_block]; exact hb)).trans (hc j u hu)⟩⟩
theorem Zi.below {w w' : World} {top n c : Nat} {A : Option Addr} {l : List Int} (h : Zi w top A n c l) (hb : Below top w w') : Zi w' top A n c l := h.keep fun _ hp => hb.cell hp
theorem Zi.at_ {w : World} {top n c : Nat} {A : Option Addr} {l : List Int} (h : Zi w top A n c l) {k : Nat} (hk : k < n) : ∃ ad u, A = some ad ∧ l[k]? = some u ∧ w.cell? (ad.add k) = some (.int .i64 u) ∧ -9223372036854775808 ≤ u ∧ u ≤ 9223372036854775807 := by
  obtain ⟨ad, e, hb, hc⟩ := h.2.2.2 (by omega)
  have hl : k < l.length := by have := h.1; omega
  have := h.2.2.1 l[k] (List.getElem_mem hl)
  exact ⟨ad, l[k], e, List.getElem?_eq_getElem hl, hc k _ (List.getElem?_eq_getElem hl), this.1, this.2⟩
theorem Zi.of_ni {w : World} {base n c top : Nat} {A : Option Addr} {l : List Nat} (h : Ni w base A n c l) (ht : w.heap.size ≤ top) (hl : ∀ u ∈ l, u ≤ 9223372036854775807) : Zi w top A n c (l.map fun u : Nat => (u : Int)) :=
  ⟨by simpa using h.1, h.2.1, fun u hu => by obtain ⟨v, hv, rfl⟩ := List.mem_map.1 hu; have := hl v hv; omega, fun hn => by
    obtain ⟨ad, e, hb, ht2, hc⟩ := h.2.2 hn
    exact ⟨ad, e, by omega, fun j u hu => by
      rw [List.getElem?_map] at hu
      cases hx : l[j]? with
      | none => rw [hx] at hu; cases hu
      | some x => rw [hx] at hu; simp at hu; subst hu; exact hc j x hx⟩⟩

/-- The set with these in, too. -/
def setL (U : List Bool) : List Int → List Bool
  | [] => U
  | u :: r => setL (U.set u.toNat true) r
theorem setL_length : ∀ (l : List Int) (U : List Bool), (setL U l).length = U.length
  | [], _ => rfl
  | u :: r, U => by rw [setL, setL_length r]; simp
theorem setL_append : ∀ (a b : List Int) (U : List Bool), setL U (a ++ b) = setL (setL U a) b
  | [], _, _ => rfl
  | u :: r, b, U => by rw [List.cons_append, setL, setL, setL_append r b]
theorem setL_take {U : List Bool} {l : List Int} {i : Nat} {u : Int} (h : l[i]? = some u) : setL U (l.take (i + 1)) = (setL U (l.take i)).set u.toNat true := by
  have hlt := (List.getElem?_eq_some_iff.1 h).1
  have he := (List.getElem?_eq_some_iff.1 h).2
  rw [List.take_succ_eq_append_getElem hlt, he, setL_append]
  rfl
theorem setL_get : ∀ (l : List Int) (U : List Bool) (i : Nat), (∀ u ∈ l, 0 ≤ u) → i < U.length → ((setL U l)[i]? = some true ↔ U[i]? = some true ∨ (i : Int) ∈ l)
  | [], U, i, _, _ => by simp [setL]
  | u :: r, U, i, h, hi => by
    have hu := h u (by simp)
    rw [setL, setL_get r (U.set u.toNat true) i (fun v hv => h v (by simp [hv])) (by simpa using hi), List.getElem?_set]
    by_cases hui : u.toNat = i
    · have : (i : Int) = u := by omega
      simp [hui, this, hi]
    · have : ¬ (i : Int) = u := by omega
      simp [hui, this]
section
variable {w w' : World} {q g p s m : Nat} {B : List UInt8} {C : Ca} {W : List Nat} {U : List Bool}
/-- Are they all pages? -/
def inP (k : Nat) (l : List Int) : Prop := ∀ u ∈ l, 0 ≤ u ∧ u < (k : Int)
theorem open_any (hd : Dk w p s m B C) {A : Option Addr} {n c : Nat} {l : List Int} (hl : Zi w w.heap.size A n c l) (hn : n ≤ 1048576) :
    Calls Tryd.prog 8 #[ptr p, .slice A n c] w fun e w' =>
      (inP (C.length / 2) l → ∃ q g W, e = .returned (.tuple #[ptr q, .int .i64 0]) ∧ Pg w' q g p s m B C W (setL (List.replicate (C.length / 2) false) l) ∧ w.heap.size ≤ q ∧ w.heap.size ≤ g) ∧
      (¬ inP (C.length / 2) l → e = .returned (.tuple #[.pointer none, .int .i64 2])) ∧ Below w.heap.size w w' := by
  have HS := Lib.hid (size_any hd)
  have HD := Lib.hid hd
  have HL := Lib.hid hl
  have h0 := hd.h0
  have h1 := hd.h1
  have hcap := hl.2.1
  have hlen := Lib.hid hl.1
  obtain ⟨k, hk⟩ : ∃ k, k = C.length / 2 := ⟨_, rfl⟩
  have hkd : ((C.length : Int) / 2) = (k : Int) := by omega
  have hk8 : k ≤ 8192 := by omega
  have HKK := Lib.hid hk
  rw [← hk]
  clear hd hl hk
  have HN := Lib.hid (newb w k (by omega))
  have HB1 := Lib.hid (bl_alloc (bl0 w) (.cells (cN (List.replicate ((k + 63) / 64) 0)).toArray 78))
  have HW1 := Lib.hid (Bk.new w (cN (List.replicate ((k + 63) / 64) 0)) 78)
  have HW2 := Lib.hid (Bw.none k)
  have hrl : (List.replicate ((k + 63) / 64) 0).length = (k + 63) / 64 := by simp
  generalize List.replicate ((k + 63) / 64) 0 = W0 at *
  obtain ⟨M, hM⟩ : ∃ M, M = (k + 63) / 64 := ⟨_, rfl⟩
  rw [← hM] at HN hrl
  have hM8 : M ≤ 16384 := by omega
  have HMM := Lib.hid hM
  have hRl : (List.replicate k false).length = k := by simp
  generalize List.replicate k false = U0 at *
  clear hM
  go_enter Tryd.func8, Tryd.ntmps8
  go_wp2_with (first | (go_at_call 26; refine HS.out.mono ?_; rintro e w' ⟨rfl, hw⟩; subst w') | (go_at_call 27; refine HN.out.mono ?_; rintro e w' ⟨rfl, hw⟩; subst w'))
  clear hkd
  go_loopw [20] (fun vi wr => ∃ i : Nat, i ≤ n ∧ vi = .int .i64 (i : Int) ∧ Hid (∀ u ∈ l.take i, 0 ≤ u ∧ u < (k : Int)) ∧ ∃ W, Hid (Bk wr w.heap.size (cN W)) ∧ Hid (Bw W (setL U0 (l.take i))) ∧ Hid (Below w.heap.size w wr)) (fun vi _ => n - (RowKit.intOf vi).toNat)
  case atStart => exact ⟨0, by omega, rfl, Lib.hid (by simp), W0, HW1, by simpa [setL] using HW2, HB1⟩
  case round =>
    obtain ⟨i, hi, rfl, HI, W, HK, HW, HB⟩ := hrel
    by_cases hlt : i < n
    · obtain ⟨ad, u, rfl, hu, hcu, hu1, hu2⟩ := (HL.out.below HB.out).at_ hlt
      have hcu' : wr.cell? (ad.add i) = some (.int .i64 u) := hcu
      by_cases hin : 0 ≤ u ∧ u < (k : Int)
      · obtain ⟨v, rfl⟩ : ∃ v : Nat, u = (v : Int) := ⟨u.toNat, by omega⟩
        have hsl := setL_length (l.take i) U0
        have hWM : W.length = M := by rw [HW.out.len, hsl, hRl, HMM.out]
        have HA := add_b HK.out HW.out (by omega) v (by rw [hsl, hRl]; omega)
        rw [hWM] at HA
        have HA := Lib.hid HA
        have HAW := Lib.hid (HW.out.add (i := v) (by rw [hsl, hRl]; omega))
        have HT := Lib.hid (setL_take (U := U0) hu)
        have HI2 : Hid (∀ u ∈ l.take (i + 1), 0 ≤ u ∧ u < (k : Int)) := Lib.hid (by
          intro x hx
          have hlt2 := (List.getElem?_eq_some_iff.1 hu).1
          rw [List.take_succ_eq_append_getElem hlt2, (List.getElem?_eq_some_iff.1 hu).2] at hx
          rcases List.mem_append.1 hx with h | h
          · exact HI.out x h
          · simp at h; subst h; exact hin)
        have hin1 := hin.1
        have hin2 := hin.2
        clear hu hin hcu hsl hWM
        go_wp2_with (first | (go_at_call 28; refine HA.out.mono ?_; rintro e w' ⟨rfl, hk2, ho2⟩; have HK2 := Lib.hid hk2; have HO2 := Lib.hid ho2; clear hk2 ho2))
        go_roundw
        case rel => exact ⟨i + 1, by omega, by go_num, HI2, _, HK2, Lib.hid (by rw [HT.out]; exact HAW.out), Lib.hid (HB.out.trans (HO2.out.below HB.out.size (fun x e => by omega)))⟩
        case measure => simp [RowKit.intOf]; omega
      · have HNI : Hid (¬ inP k l) := Lib.hid (fun h => hin (h u (List.mem_of_getElem? hu)))
        clear hu
        by_cases hneg : u < 0
        · clear hin
          go_wp2
          go_ret2
          exact ⟨fun h => absurd h HNI.out, fun _ => rfl, HB.out⟩
        · have hge : (k : Int) ≤ u := by omega
          clear hin
          go_wp2
          go_ret2
          exact ⟨fun h => absurd h HNI.out, fun _ => rfl, HB.out⟩
    · obtain rfl : i = n := by omega
      have HLl := HL.out.1
      rw [List.take_of_length_le (by omega)] at HI HW
      have hsl := setL_length l U0
      have hWM : W.length = M := by rw [HW.out.len, hsl, hRl, HMM.out]
      have HWM := Lib.hid hWM
      have HSL := Lib.hid hsl
      have HRL := Lib.hid hRl
      have hlow : w.heap.size < wr.heap.size := HK.out.lt
      have HDr := Lib.hid (HD.out.old HB.out)
      have h2 := HD.out.plt; have h3 := HD.out.slt; have h4 := HD.out.mlt
      clear hsl hWM HLl
      go_wp2
      go_ret2
      have hb2 : Below wr.heap.size wr (wr.alloc (.cells #[ptr p, .int .i64 (k : Int), bmv w.heap.size M] 67)) := bl_alloc (bl0 _) _
      refine ⟨fun _ => ⟨wr.heap.size, w.heap.size, W, rfl, ⟨?_, HDr.out.old hb2, HK.out.keep hb2, HW.out, ?_, by omega, by omega, by omega, by omega, by omega, by omega, by omega⟩, by omega, Nat.le_refl _⟩, fun h => absurd HI.out h, bl_call HB.out hb2⟩
      · rw [HSL.out, HRL.out, HWM.out]
        exact heap_alloc_new _ _
      · rw [HSL.out, HRL.out, HKK.out]
end
end Go.Proofs.YtdfihpnmiiaflaaDoor
end
