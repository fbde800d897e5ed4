/- Texts of this claim, one behind the other: Ru, Rx, Ry. -/
import Derived.Test.YtgpfognglpfmoaaGreatDoorZ09
set_option linter.unusedSimpArgs false
set_option linter.unusedVariables false
section
/- record: Bytes of a record that may be. -/
namespace Go.Proofs.YtgpfognglpfmoaaGreatDoor
set_option maxRecDepth 8192
set_option linter.unusedSimpArgs false
set_option linter.unusedVariables false
open Go.RowKit

theorem Bk.kp {may : Nat → Prop} {w w' : World} {g : Nat} {cs : List Value} (h : Bk w g cs) (hk : Kp may w w') (hm : ¬ may g) : Bk w' g cs := by
  have hl := h.lt
  obtain ⟨t, h⟩ := h
  exact ⟨t, (hk.block g hl hm).trans h⟩
theorem kp_setRow {may : Nat → Prop} (w : World) (g : Nat) (cs : Array Value) (hm : may g) : Kp may w (w.setRow g cs) :=
  ⟨rfl, rfl, rfl, by simp [World.setRow], fun k _ hk => setRow_other w g k cs (fun e => hk (by rw [e]; exact hm))⟩
theorem kp_drew {may : Nat → Prop} (w : World) : Kp may w w.drew := Kp.of_old (Below.refl _ _).drew
theorem kp_grown {may : Nat → Prop} {w w' : World} {v : Value} (h : w.grownBy w' v.ownBlock) (hm : ∀ k, v.ownBlock = some k → may k) : Kp may w w' :=
  ⟨h.os, h.tape, h.output, h.size, fun k hk hn => h.block k hk (fun e => hn (hm k e.symm))⟩
/-- Block g, and what comes from top on, may change. -/
def gt (g top : Nat) (k : Nat) : Prop := k = g ∨ top ≤ k
theorem exec_slice_hi {o : Oper} {a : Act} {w : World} {T : TypeId} {n g h : Nat} (x y : Operand) (ho : o.op = .slice T x none (some y) none) (hx : a.eval x = .pointer (some ⟨g, 0, none⟩)) (hy : a.eval y = .int .i64 (h : Int)) (hu : Tryz.prog.underlying T = some (.array n 5)) (hh : h ≤ n) (hn : 0 < n) :
    (execOp a.eval o).run Tryz.prog w = .ok (.value (.slice (some ⟨g, 0, none⟩) h n)) w := by
  unfold execOp
  simp only [ho, hx, hy, Option.map_none, Option.map_some, run_slice_hi hu hh hn, Sem.run_bind, Result.andThen_ok, Sem.run_pure]
theorem info31 : (Tryz.prog.info? 33).map (·.size) = some 2 := by kernel_rfl

set_option maxHeartbeats 1600000 in
theorem Bytes_good {A : Option Addr} {n c : Nat} {k : UInt8} {C l : List UInt8} (w : World) (hC : C.length = 32) (hr : Rd w w.heap.size A n c l) (hk : k ≠ 0) (hn : n ≤ 8192) :
    Calls Tryz.prog 90 #[.agg (cs8 C).toArray, .agg #[.int .u8 (k.toNat : Int), .slice A n c]] w (IsB w (nextR C k l) (recB C k l)) := by
  have HR := Lib.hid hr
  have HC := Lib.hid hC
  have HK := Lib.hid hk
  have HC8 := Lib.hid (show (cs8 C).length = 32 by rw [cs8_length, hC])
  have hp := recP_length k l
  have hnn := numSize_bd l.length
  have hll := hr.len
  have hpl : (recP k l).length ≤ 8300 := by omega
  have HPL := Lib.hid hpl
  have HP := Lib.hid (show (cs8 (nextR C k l)).length = 32 by rw [cs8_length, nextR_length])
  have HL := Lib.hid (nextR_length C k l)
  have HNX := Lib.hid (fun (W : World) (h : Rd W W.heap.size A n c l) => Next_any k W hC h (by omega))
  have HU := Lib.hid (show recB C k l = recP k l ++ (nextR C k l).take 8 from rfl)
  clear hr hC hk hp hll hnn hpl
  rw [HU.out]
  clear HU
  generalize nextR C k l = S at HP HL HNX ⊢
  go_enter Tryz.func90, Tryz.ntmps90
  go_wp2_with (refine wpList_alloc_z rfl 59 rfl z36 zero36 ?_)
  refine (Check_good _ HK.out hn).mono ?_; rintro e w1 ⟨rfl, hb⟩
  have hB1 := Lib.hid (bl_call (bl_alloc (bl_alloc (bl_alloc (bl0 w) (.cells (cs8 C).toArray 59)) (.cells #[.int .u8 (k.toNat : Int), .slice A n c] 33)) (.cells z36.toArray 59)) hb)
  have hZ1 : Hid (Bk w1 (w.heap.size + 1 + 1) z36) := Lib.hid (by
    have := (Bk.new ((w.alloc (.cells (cs8 C).toArray 59)).alloc (.cells #[.int .u8 (k.toNat : Int), .slice A n c] 33)) z36 59).keep hb
    simpa using this)
  have hR1 : Hid (Bk w1 (w.heap.size + 1) [.int .u8 (k.toNat : Int), .slice A n c]) := Lib.hid (by
    have := ((Bk.new (w.alloc (.cells (cs8 C).toArray 59)) [.int .u8 (k.toNat : Int), .slice A n c] 33).old (.cells z36.toArray 59)).keep hb
    simpa using this)
  have hC1 : Hid (Bk w1 w.heap.size (cs8 C)) := Lib.hid ((((Bk.new w (cs8 C) 59).old _).old _).keep hb)
  clear hb
  have hc0 := hR1.out.cell (k := 0) rfl
  have hc1 := hR1.out.cell (k := 1) rfl
  go_wp2_with (first | (refine wpList_load_at rfl 59 _ rfl ⟨w.heap.size, 0, none⟩ rfl (cs8 C) _ hC1.out.at_ Tryz.underlying59 rfl (by rw [HC8.out]; exact info36) ?_) | fail)
  refine (HNX.out w1 (HR.out.top hB1.out)).mono ?_; rintro e w2 ⟨rfl, hb⟩
  have hB2 := Lib.hid (bl_call hB1.out hb)
  have hZ2 := Lib.hid (hZ1.out.keep hb)
  have hR2 := Lib.hid (hR1.out.keep hb)
  clear hb hZ1 hR1 hC1 hB1 hc0 hc1
  have hN3 := Lib.hid (Bk.new w2 z36 59)
  have hz2 := hZ2.out.lt
  go_wp2_with (first | (refine wpList_alloc_z rfl 59 rfl z36 zero36 ?_) | (refine wpList_store_bk rfl 59 _ _ rfl w2.heap.size rfl (cs8 S) z36 rfl hN3.out (by rw [HP.out]; exact info36) (by rw [HP.out]; exact len_z36) (cs8_all _) ?_))
  have hN4 := Lib.hid (hN3.out.setRow (cs8 S))
  have hB4 := Lib.hid (bl_setRow (bl_alloc hB2.out (.cells z36.toArray 59)) hB2.out.size (cs8 S).toArray)
  have hZ4 := Lib.hid ((hZ2.out.old (.cells z36.toArray 59)).other (show w.heap.size + 1 + 1 ≠ w2.heap.size by omega) (cs8 S).toArray)
  have hR4 := Lib.hid ((hR2.out.old (.cells z36.toArray 59)).other (show w.heap.size + 1 ≠ w2.heap.size by omega) (cs8 S).toArray)
  have hz4 : w2.heap.size < ((w2.alloc (.cells z36.toArray 59)).setRow w2.heap.size (cs8 S).toArray).heap.size := hN4.out.lt
  generalize (w2.alloc (.cells z36.toArray 59)).setRow w2.heap.size (cs8 S).toArray = w4 at hN4 hB4 hZ4 hR4 hz4 ⊢
  generalize w2.heap.size = G at hN4 hz2 hz4 ⊢
  clear hN3 hZ2 hR2 hB2
  try simp only [Act.put, List.getElem_toArray, List.getElem_cons_succ, List.getElem_cons_zero, List.setIfInBounds_toArray, List.set_cons_zero, List.set_cons_succ]
  have hR := Kp.stays (gt (w.heap.size + 1 + 1) w4.heap.size)
  refine reg_start (Kp (gt (w.heap.size + 1 + 1) w4.heap.size)) follows_mixed ?_
  have hB5 := Lib.hid hB4.out.drew
  have hN5 := Lib.hid hN4.out.drew
  have hZ5 := Lib.hid hZ4.out.drew
  have hR5 := Lib.hid hR4.out.drew
  have hz5 : w4.drew.heap.size = w4.heap.size := rfl
  clear hB4 hN4 hZ4 hR4
  generalize w4.drew = w5 at hB5 hN5 hZ5 hR5 hz5 ⊢
  generalize w4.heap.size = T at hz4 hz5 hR ⊢
  refine reg_take (v := .agg #[.int .u8 (k.toNat : Int), .slice A n c]) hR 0 rfl (by kernel_rfl) (by kernel_rfl) (by kernel_rfl) (fun _ _ _ h => h) (by rfl) ?_ ?_
  · intro W hW; exact exec_load_at 33 _ rfl ⟨w.heap.size + 1, 0, none⟩ rfl [.int .u8 (k.toNat : Int), .slice A n c] _ (hR5.out.kp hW (by unfold gt; omega)).at_ Tryz.underlying33 rfl info31
  try simp only [Act.put, List.getElem_toArray, List.getElem_cons_succ, List.getElem_cons_zero, List.setIfInBounds_toArray, List.set_cons_zero, List.set_cons_succ]
  refine reg_take (v := .slice (some ⟨G, 0, none⟩) 8 32) hR 2 rfl (by kernel_rfl) (by kernel_rfl) (by kernel_rfl) (fun _ _ _ h => h) (by rfl) ?_ ?_
  · intro W hW; exact exec_slice_hi _ _ rfl rfl rfl Tryz.underlying59 (by decide) (by decide)
  try simp only [Act.put, List.getElem_toArray, List.getElem_cons_succ, List.getElem_cons_zero, List.setIfInBounds_toArray, List.set_cons_zero, List.set_cons_succ]
  refine reg_take (v := .agg (cs8 S).toArray) hR 4 rfl (by kernel_rfl) (by kernel_rfl) (by kernel_rfl) (fun _ _ _ h => h) (by rfl) ?_ ?_
  · intro W hW; exact exec_load_at 59 _ rfl ⟨G, 0, none⟩ rfl (cs8 S) _ (hN5.out.kp hW (by unfold gt; omega)).at_ Tryz.underlying59 rfl (by rw [HP.out]; exact info36)
  try simp only [Act.put, List.getElem_toArray, List.getElem_cons_succ, List.getElem_cons_zero, List.setIfInBounds_toArray, List.set_cons_zero, List.set_cons_succ]
  refine reg_step hR 1 (by kernel_rfl) rfl fun K hK => ?_
  try simp only [Act.put, List.getElem_toArray, List.getElem_cons_succ, List.getElem_cons_zero, List.setIfInBounds_toArray, List.set_cons_zero, List.set_cons_succ]
  go_simp
  refine (content_any k _ (HR.out.top hB5.out) (by omega)).mono ?_; rintro e w6 ⟨v6, rfl, ho6, hb6⟩
  refine hK.out _ _ (Kp.of_old hb6) ?_
  have hB6 := Lib.hid (bl_call hB5.out hb6)
  have hN6 := Lib.hid (hN5.out.keep hb6)
  have hZ6 := Lib.hid (hZ5.out.keep hb6)
  have hO6 := Lib.hid ho6
  have hz6 := hb6.size
  clear hb6 ho6 hB5 hN5 hZ5 hR5
  clear hK K
  try simp only [Act.put, List.getElem_toArray, List.getElem_cons_succ, List.getElem_cons_zero, List.setIfInBounds_toArray, List.set_cons_zero, List.set_cons_succ]
  refine reg_step hR 3 (by kernel_rfl) rfl fun K hK => ?_
  try simp only [Act.put, List.getElem_toArray, List.getElem_cons_succ, List.getElem_cons_zero, List.setIfInBounds_toArray, List.set_cons_zero, List.set_cons_succ]
  rw [if_pos (by rfl)]
  refine wp_app _ _ rfl rfl hO6.out rfl ((hN6.out.sl HL.out).rd.take_ (k := 8) (by decide)) (by have := HPL.out; omega) (by omega) ?_
  intro v7 w7 ho7 hg7
  have hk7 : Kp (gt (w.heap.size + 1 + 1) T) w6 w7 := kp_grown hg7 (fun k hk => by have := (World.ownsRow.lt hO6.out k hk).1; unfold gt; omega)
  refine hK.out _ _ hk7 ?_
  have hO7 := Lib.hid ho7
  have hN7 := Lib.hid (hN6.out.grown hg7 (fun e => by have := (World.ownsRow.lt hO6.out _ e).1; omega))
  have hZ7 := Lib.hid (hZ6.out.grown hg7 (fun e => by have := (World.ownsRow.lt hO6.out _ e).1; omega))
  have hB7 := Lib.hid (hB6.out.grown hg7 hB6.out.size (fun k hk => by have := (World.ownsRow.lt hO6.out k hk).1; have := hB6.out.size; omega))
  have hne : v7.ownBlock ≠ some (w.heap.size + 1 + 1) := fun e => by have := (World.ownsRow.lt hO7.out _ e).1; omega
  clear hg7 ho7 hk7 hO6 hB6 hN6 hZ6
  clear hK K
  try simp only [Act.put, List.getElem_toArray, List.getElem_cons_succ, List.getElem_cons_zero, List.setIfInBounds_toArray, List.set_cons_zero, List.set_cons_succ]
  refine reg_take (v := v7) hR 5 rfl (by kernel_rfl) (by kernel_rfl) (by kernel_rfl) (fun _ _ _ h => h) (by rfl) ?_ ?_
  · intro W hW; go_simp; try with_reducible rfl
  try simp only [Act.put, List.getElem_toArray, List.getElem_cons_succ, List.getElem_cons_zero, List.setIfInBounds_toArray, List.set_cons_zero, List.set_cons_succ]
  refine reg_step hR 6 (by kernel_rfl) rfl fun K hK => ?_
  try simp only [Act.put, List.getElem_toArray, List.getElem_cons_succ, List.getElem_cons_zero, List.setIfInBounds_toArray, List.set_cons_zero, List.set_cons_succ]
  rw [if_pos (by rfl)]
  refine wp_store_bk 59 _ _ rfl (w.heap.size + 1 + 1) rfl (cs8 S) z36 rfl hZ7.out (by rw [HP.out]; exact info36) (by rw [HP.out]; exact len_z36) (cs8_all _) ?_
  refine hK.out _ _ (kp_setRow _ _ _ (by unfold gt; omega)) ?_
  clear hK K
  try simp only [Act.put, List.getElem_toArray, List.getElem_cons_succ, List.getElem_cons_zero, List.setIfInBounds_toArray, List.set_cons_zero, List.set_cons_succ]
  refine reg_take (v := .int .i64 0) hR 7 rfl (by kernel_rfl) (by kernel_rfl) (by kernel_rfl) (fun _ _ _ h => h) (by rfl) ?_ ?_
  · intro W hW; go_simp; try with_reducible rfl
  try simp only [Act.put, List.getElem_toArray, List.getElem_cons_succ, List.getElem_cons_zero, List.setIfInBounds_toArray, List.set_cons_zero, List.set_cons_succ]
  refine reg_done (by kernel_rfl) ?_ _
  have hZ8 := Lib.hid (hZ7.out.setRow (cs8 S))
  have hO8 := Lib.hid (hO7.out.setRow hne (cs8 S).toArray)
  have hB8 := Lib.hid (bl_setRow hB7.out (show w.heap.size ≤ w.heap.size + 1 + 1 by omega) (cs8 S).toArray)
  go_wp2
  exact ret_tct rfl rfl rfl (load_bk hZ8.out Tryz.underlying59 rfl (by rw [HP.out]; exact info36)) ⟨v7, rfl, hO8.out.lower (by omega), hB8.out⟩
end Go.Proofs.YtgpfognglpfmoaaGreatDoor
end
section
/- record: readParts. -/
namespace Go.Proofs.YtgpfognglpfmoaaGreatDoor
set_option maxRecDepth 8192
set_option linter.unusedSimpArgs false
set_option linter.unusedVariables false
open Go.RowKit

def z31 : List Value := [.int .u8 0, .slice none 0 0]
theorem zero31 (w : World) : (zeroValue 33).run Tryz.prog w = .ok (.agg z31.toArray) w := zero_of (by kernel_rfl) w
theorem built31 : Tryz.prog.built 33 [] = some z31.toArray := by kernel_rfl
theorem built31_two (k : Int) (A : Option Addr) (n c : Nat) : Tryz.prog.built 33 [(0, .int .u8 k), (1, .slice A n c)] = some #[.int .u8 k, .slice A n c] := by kernel_rfl
theorem all_z31 : z31.toArray.all (·.oneCell') = true := by decide +kernel
theorem Ow.only {w w' : World} {base g : Nat} {v : Value} {l : List UInt8} (h : Ow w base v l) (ho : Only g w w') (hg : g < base) : Ow w' base v l :=
  World.ownsRow.kept h ho (Or.inr (fun e => by have := (World.ownsRow.lt h _ e).1; omega))

/-- readParts has read a part. -/
def PartOk (w : World) (g : Nat) (p : Part) (e : Ending) (w' : World) : Prop :=
  ∃ A n c v2, e = .returned (.tuple #[.agg #[.int .u8 (p.kind.toNat : Int), .slice A n c], v2, .int .i64 0]) ∧ Ow w' w.heap.size (.slice A n c) p.data ∧ Ow w' w.heap.size v2 p.told ∧ Rdr w' g p.rest 0 ∧ Only g w w'
/-- It has read none. -/
def PartBad (w : World) (g : Nat) (err : Int) (e : Ending) (w' : World) : Prop :=
  ∃ k A n c v2, e = .returned (.tuple #[.agg #[.int .u8 k, .slice A n c], v2, .int .i64 err]) ∧ Only g w w'

theorem Rdr.old {w : World} {g : Nat} {l : List UInt8} {e : Int} (h : Rdr w g l e) (o : Obj) : Rdr (w.alloc o) g l e := h.below (bl_alloc (bl0 w) o)
theorem Only.alloc {w w' : World} {g : Nat} (h : Only g w w') (o : Obj) : Only g w (w'.alloc o) := h.trans (Only.of_below (bl_alloc (bl0 w') o))

theorem Only.tb {w w1 w2 : World} {g B : Nat} (h : Only g w w1) (k : Below B w1 w2) (hB : w.heap.size ≤ B) : Only g w w2 :=
  ⟨k.os.trans h.os, k.tape.trans h.tape, k.output.trans h.output, Nat.le_trans h.size k.size, fun i hi hne => (k.block i (by omega)).trans (h.block i hi hne)⟩
theorem tk_len2 (n : Nat) (l : List UInt8) (e : Int) : (tk n l e).2.1.length ≤ l.length := by
  unfold tk
  split
  · split
    · simp
    · exact Nat.le_refl _
  · exact Nat.le_refl _
theorem Rdr.only {w w' : World} {g b : Nat} {l : List UInt8} {e : Int} (h : Rdr w g l e) (ho : Only b w w') (hb : g < b) : Rdr w' g l e := by
  have hlt := h.lt
  obtain ⟨A, n, c, hg, hr⟩ := h
  exact ⟨A, n, c, (ho.block g hlt (fun e => by injection e; omega)).trans hg, hr.only ho (by omega) (by omega)⟩
theorem tk1_nil : tk (wordLen 1) [] 0 = ([], [], 5) := rfl
theorem tk1_cons (u : UInt8) (t : List UInt8) : tk (wordLen 1) (u :: t) 0 = ([u], t, 0) := by
  rw [show wordLen 1 = 1 from rfl, tk, if_pos rfl, if_pos (by simp)]
  rfl
theorem RWord_nil {w : World} {g : Nat} (h : Rdr w g [] 0) : Calls Tryz.prog 114 #[.pointer (some ⟨g, 0, none⟩), .int .i64 1] w (Left w g (.int .u64 0) [] 5) := RWord_any h 1 (by decide)
theorem RWord_cons {w : World} {g : Nat} {u : UInt8} {t : List UInt8} (h : Rdr w g (u :: t) 0) (hl : (u :: t).length ≤ 4294967296) : Calls Tryz.prog 114 #[.pointer (some ⟨g, 0, none⟩), .int .i64 1] w (Left w g (.int .u64 (u.toNat : Int)) t 0) := by
  have := RWord_any h 1 hl
  rw [tk1_cons] at this
  exact this
theorem RNumber_bad {w : World} {g : Nat} (h : Rdr w g [] 5) : Calls Tryz.prog 167 #[.pointer (some ⟨g, 0, none⟩)] w (Left w g (.int .u64 0) [] 5) := RNumber_any h (by decide)
theorem RTake_bad {w : World} {g : Nat} (h : Rdr w g [] 5) (n : Int) (hn : n ≤ 9223372036854775807) : Calls Tryz.prog 168 #[.pointer (some ⟨g, 0, none⟩), .int .i64 n] w (Gave w g ([], [], 5)) := by
  have := RTake_any h n hn (by decide)
  rwa [show tk n.toNat [] 5 = ([], [], 5) from rfl] at this

set_option maxHeartbeats 1600000 in
theorem parts_nil {g : Nat} (w : World) (hR : Rdr w g [] 0) : Calls Tryz.prog 146 #[.pointer (some ⟨g, 0, none⟩)] w (PartBad w g 5) := by
  have HR := Lib.hid hR
  clear hR
  have hZ1 := Lib.hid (Bk.new w z31 33)
  have hR1 := Lib.hid (HR.out.old (.cells z31.toArray 33))
  have hO1 := Lib.hid ((Only.refl g w).alloc (.cells z31.toArray 33))
  have hz1 : w.heap.size < (w.alloc (.cells z31.toArray 33)).heap.size := by simp
  have hgl := HR.out.lt
  go_enter Tryz.func146, Tryz.ntmps146
  go_wp2_with (refine wpList_alloc_z rfl 33 rfl z31 zero31 ?_)
  generalize w.alloc (.cells z31.toArray 33) = w1 at hZ1 hR1 hO1 hz1 ⊢
  refine (RWord_nil hR1.out).mono ?_; rintro e w2 ⟨rfl, hR2, hO2⟩
  go_wp2_with fail
  refine (Err_any hR2).mono ?_; rintro e w' ⟨rfl, rfl⟩
  go_wp2_with fail
  refine (RNumber_bad hR2).mono ?_; rintro e w3 ⟨rfl, hR3, hO3⟩
  go_wp2_with fail
  refine (RTake_bad hR3 _ (by decide)).mono ?_; rintro e w4 ⟨v4, rfl, ho4, hR4, hO4⟩
  obtain ⟨A4, c4, rfl, _⟩ := ho4.rdN (n := 0) rfl
  clear ho4
  go_wp2_with fail
  refine (RTake_bad hR4 8 (by decide)).mono ?_; rintro e w5 ⟨v5, rfl, ho5, hR5, hO5⟩
  have hO5' := Lib.hid (hO2.trans (hO3.trans (hO4.trans hO5)))
  have hZ5 : Hid (Bk w5 w.heap.size z31) := Lib.hid (by
    obtain ⟨t, h⟩ := hZ1.out
    exact ⟨t, (hO5'.out.block w.heap.size hz1 (fun e => by injection e with e; omega)).trans h⟩)
  clear ho5 hO2 hO3 hO4 hO5 hZ1
  have hz5 := hZ5.out.lt
  go_wp2_with (first | (refine wpList_build rfl 31 _ rfl _ (built31_two _ _ _ _) ?_))
  refine (Err_any hR5).mono ?_; rintro e w' ⟨rfl, rfl⟩
  have hc0 := hZ5.out.cell (k := 0) rfl
  have hc1 := hZ5.out.cell (k := 1) rfl
  have hf0 := hZ5.out.frozen 0
  have hf1 := hZ5.out.frozen 1
  go_wp2
  refine ret_ctt (v := .agg #[.int .u8 0, .slice A4 0 c4]) rfl rfl rfl (load_bk (cs := [.int .u8 0, .slice A4 0 c4]) ((hZ5.out.setCell 0 _).setCell 1 _) Tryz.underlying33 rfl info31) ⟨_, _, _, _, _, rfl, ?_⟩
  exact (hO1.out.trans hO5'.out).tb (((Below.refl w.heap.size w5).setCell (Nat.le_refl _) _).setCell (Nat.le_refl _) _) (Nat.le_refl _)

theorem Part.eta (p : Part) : p = ⟨p.kind, p.data, p.told, p.rest, p.err⟩ := by cases p; rfl
theorem Sk.only {w w' : World} {g b : Nat} {cs : List Value} (h : Bk w b cs) (ho : Only g w w') (hne : b ≠ g) : Bk w' b cs := by
  have hl := h.lt
  obtain ⟨t, h⟩ := h
  exact ⟨t, (ho.block b hl (fun e => by injection e; omega)).trans h⟩

set_option maxHeartbeats 1600000 in
theorem parts_zero {g : Nat} {t : List UInt8} (w : World) (hR : Rdr w g (0 :: t) 0) (hl : (0 :: t).length ≤ 4294967296) : Calls Tryz.prog 146 #[.pointer (some ⟨g, 0, none⟩)] w (PartBad w g 4) := by
  have HR := Lib.hid hR
  have HL := Lib.hid hl
  clear hR hl
  have hZ1 := Lib.hid (Bk.new w z31 33)
  have hR1 := Lib.hid (HR.out.old (.cells z31.toArray 33))
  have hO1 := Lib.hid ((Only.refl g w).alloc (.cells z31.toArray 33))
  have hz1 : w.heap.size < (w.alloc (.cells z31.toArray 33)).heap.size := by simp
  have hgl := HR.out.lt
  go_enter Tryz.func146, Tryz.ntmps146
  go_wp2_with (refine wpList_alloc_z rfl 33 rfl z31 zero31 ?_)
  generalize w.alloc (.cells z31.toArray 33) = w1 at hZ1 hR1 hO1 hz1 ⊢
  refine (RWord_cons hR1.out HL.out).mono ?_; rintro e w2 ⟨rfl, hR2, hO2⟩
  have hZ2 := Lib.hid (Sk.only hZ1.out hO2 (by omega))
  have hO2' := Lib.hid hO2
  clear hO2 hZ1
  rw [show ((0 : UInt8).toNat : Int) = 0 from rfl]
  go_wp2_with fail
  refine (Err_any hR2).mono ?_; rintro e w' ⟨rfl, rfl⟩
  have hc0 := hZ2.out.cell (k := 0) rfl
  have hc1 := hZ2.out.cell (k := 1) rfl
  have hf0 := hZ2.out.frozen 0
  have hf1 := hZ2.out.frozen 1
  go_wp2_with (refine wpList_build rfl 31 _ rfl _ built31 ?_)
  refine ret_ctt (v := .agg #[.int .u8 0, .slice none 0 0]) rfl rfl rfl (load_bk (cs := [.int .u8 0, .slice none 0 0]) ((hZ2.out.setCell 0 _).setCell 1 _) Tryz.underlying33 rfl info31) ⟨_, _, _, _, _, rfl, ?_⟩
  exact (hO1.out.trans hO2'.out).tb (((Below.refl w.heap.size w2).setCell (Nat.le_refl _) _).setCell (Nat.le_refl _) _) (Nat.le_refl _)

set_option maxHeartbeats 1600000 in
theorem parts_big {g : Nat} {u : UInt8} {t : List UInt8} (w : World) (hR : Rdr w g (u :: t) 0) (hl : (u :: t).length ≤ 4294967296) (hu : u ≠ 0) (hN : 8192 < (rdNum t 0).1) : Calls Tryz.prog 146 #[.pointer (some ⟨g, 0, none⟩)] w (PartBad w g 4) := by
  have HR := Lib.hid hR
  have HL := Lib.hid hl
  have hk := k_ne hu
  have hub := u.toNat_lt
  have HM := Lib.hid (fun (W : World) (h : Rdr W g t 0) => RNumber_any h (by simp at hl; omega))
  have hlt := rdNum_lt t 0
  clear hR hl hu
  generalize rdNum t 0 = q at hN HM hlt
  obtain ⟨M, l1, e1⟩ := q
  simp only at hN HM hlt
  have hZ1 := Lib.hid (Bk.new w z31 33)
  have hR1 := Lib.hid (HR.out.old (.cells z31.toArray 33))
  have hO1 := Lib.hid ((Only.refl g w).alloc (.cells z31.toArray 33))
  have hz1 : w.heap.size < (w.alloc (.cells z31.toArray 33)).heap.size := by simp
  have hgl := HR.out.lt
  go_enter Tryz.func146, Tryz.ntmps146
  go_wp2_with (refine wpList_alloc_z rfl 33 rfl z31 zero31 ?_)
  generalize w.alloc (.cells z31.toArray 33) = w1 at hZ1 hR1 hO1 hz1 ⊢
  refine (RWord_cons hR1.out HL.out).mono ?_; rintro e w2 ⟨rfl, hR2, hO2⟩
  have hZ2 := Lib.hid (Sk.only hZ1.out hO2 (by omega))
  have hO2' := Lib.hid hO2
  have hz2 := hO2.size
  clear hO2 hZ1
  go_wp2_with fail
  refine (Err_any hR2).mono ?_; rintro e w' ⟨rfl, rfl⟩
  go_wp2_with fail
  refine (HM.out _ hR2).mono ?_; rintro e w3 ⟨rfl, hR3, hO3⟩
  have hZ3 := Lib.hid (Sk.only hZ2.out hO3 (by omega))
  have hO3' := Lib.hid (hO2'.out.trans hO3)
  clear hO3 hZ2 hO2'
  have hc0 := hZ3.out.cell (k := 0) rfl
  have hc1 := hZ3.out.cell (k := 1) rfl
  have hf0 := hZ3.out.frozen 0
  have hf1 := hZ3.out.frozen 1
  go_wp2_with (refine wpList_build rfl 31 _ rfl _ built31 ?_)
  refine ret_ctt (v := .agg #[.int .u8 0, .slice none 0 0]) rfl rfl rfl (load_bk (cs := [.int .u8 0, .slice none 0 0]) ((hZ3.out.setCell 0 _).setCell 1 _) Tryz.underlying33 rfl info31) ⟨_, _, _, _, _, rfl, ?_⟩
  exact (hO1.out.trans hO3'.out).tb (((Below.refl w.heap.size w3).setCell (Nat.le_refl _) _).setCell (Nat.le_refl _) _) (Nat.le_refl _)

/-- readParts has gone along all of a part. -/
def PartAll (w : World) (g : Nat) (u : UInt8) (d s l3 : List UInt8) (e3 : Int) (e : Ending) (w' : World) : Prop :=
  ∃ A n c v2, e = .returned (.tuple #[.agg #[.int .u8 (u.toNat : Int), .slice A n c], v2, .int .i64 e3]) ∧ Ow w' w.heap.size (.slice A n c) d ∧ Ow w' w.heap.size v2 s ∧ Rdr w' g l3 e3 ∧ Only g w w'

set_option maxHeartbeats 1600000 in
theorem parts_all {g : Nat} {u : UInt8} {t : List UInt8} (w : World) (hR : Rdr w g (u :: t) 0) (hl : (u :: t).length ≤ 4294967296) (hu : u ≠ 0) {M : Nat} {d s l1 l2 l3 : List UInt8} {e1 e2 e3 : Int} (hM : M ≤ 8192)
    (h1 : rdNum t 0 = (M, l1, e1)) (h2 : tk M l1 e1 = (d, l2, e2)) (h3 : tk 8 l2 e2 = (s, l3, e3)) : Calls Tryz.prog 146 #[.pointer (some ⟨g, 0, none⟩)] w (PartAll w g u d s l3 e3) := by
  have HR := Lib.hid hR
  have HL := Lib.hid hl
  have hk := k_ne hu
  have hub := u.toNat_lt
  have htl : t.length ≤ 4294967296 := by simp at hl; omega
  have HM : Hid (∀ (W : World), Rdr W g t 0 → Calls Tryz.prog 167 #[.pointer (some ⟨g, 0, none⟩)] W (Left W g (.int .u64 (M : Int)) l1 e1)) := Lib.hid fun W h => by
    have := RNumber_any h htl
    rwa [h1] at this
  have hl1 : l1.length ≤ t.length := by have := rdNum_len t 0; rwa [h1] at this
  have HT : Hid (∀ (W : World), Rdr W g l1 e1 → Calls Tryz.prog 168 #[.pointer (some ⟨g, 0, none⟩), .int .i64 (M : Int)] W (Gave W g (d, l2, e2))) := Lib.hid fun W h => by
    have := RTake_any h (M : Int) (by omega) (by omega)
    rwa [Int.toNat_natCast, h2] at this
  have hl2 : l2.length ≤ l1.length := by have := tk_len2 M l1 e1; rwa [h2] at this
  have HU : Hid (∀ (W : World), Rdr W g l2 e2 → Calls Tryz.prog 168 #[.pointer (some ⟨g, 0, none⟩), .int .i64 8] W (Gave W g (s, l3, e3))) := Lib.hid fun W h => by
    have := RTake_any h 8 (by omega) (by omega)
    rwa [show (8 : Int).toNat = 8 from rfl, h3] at this
  clear hR hl hu h1 h2 h3 htl hl1 hl2
  have hZ1 := Lib.hid (Bk.new w z31 33)
  have hR1 := Lib.hid (HR.out.old (.cells z31.toArray 33))
  have hO1 := Lib.hid ((Only.refl g w).alloc (.cells z31.toArray 33))
  have hz1 : w.heap.size < (w.alloc (.cells z31.toArray 33)).heap.size := by simp
  have hgl := HR.out.lt
  go_enter Tryz.func146, Tryz.ntmps146
  go_wp2_with (refine wpList_alloc_z rfl 33 rfl z31 zero31 ?_)
  generalize w.alloc (.cells z31.toArray 33) = w1 at hZ1 hR1 hO1 hz1 ⊢
  refine (RWord_cons hR1.out HL.out).mono ?_; rintro e w2 ⟨rfl, hR2, hO2⟩
  have hZ2 := Lib.hid (Sk.only hZ1.out hO2 (by omega))
  have hO2' := Lib.hid hO2
  have hz2 := hO2.size
  clear hO2 hZ1
  go_wp2_with fail
  refine (Err_any hR2).mono ?_; rintro e w' ⟨rfl, rfl⟩
  go_wp2_with fail
  refine (HM.out _ hR2).mono ?_; rintro e w3 ⟨rfl, hR3, hO3⟩
  have hZ3 := Lib.hid (Sk.only hZ2.out hO3 (by omega))
  have hO3' := Lib.hid (hO2'.out.trans hO3)
  have hz3 := hO3.size
  clear hO3 hZ2 hO2'
  go_wp2_with fail
  refine (HT.out _ hR3).mono ?_; rintro e w4 ⟨v4, rfl, ho4, hR4, hO4⟩
  obtain ⟨A4, c4, rfl, _⟩ := ho4.rdN rfl
  have hZ4 := Lib.hid (Sk.only hZ3.out hO4 (by omega))
  have hO4' := Lib.hid (hO3'.out.trans hO4)
  have hD4 := Lib.hid ho4
  have hz4 := hO4.size
  clear hO4 hZ3 hO3' ho4
  go_wp2_with fail
  refine (HU.out _ hR4).mono ?_; rintro e w5 ⟨v5, rfl, ho5, hR5, hO5⟩
  have hZ5 := Lib.hid (Sk.only hZ4.out hO5 (by omega))
  have hO5' := Lib.hid (hO4'.out.trans hO5)
  have hD5 := Lib.hid (hD4.out.only hO5 (by omega))
  have hS5 := Lib.hid ho5
  have hz5 := hO5.size
  clear hO5 hZ4 hO4' ho5 hD4
  go_wp2_with (first | (refine wpList_build rfl 31 _ rfl _ (built31_two _ _ _ _) ?_))
  refine (Err_any hR5).mono ?_; rintro e w' ⟨rfl, rfl⟩
  have hc0 := hZ5.out.cell (k := 0) rfl
  have hc1 := hZ5.out.cell (k := 1) rfl
  have hf0 := hZ5.out.frozen 0
  have hf1 := hZ5.out.frozen 1
  go_wp2
  have hs := (Only.set w5 0 (.int .u8 (u.toNat : Int)) (g := w.heap.size)).trans (Only.set _ 1 (.slice A4 d.length c4))
  refine ret_ctt (v := .agg #[.int .u8 (u.toNat : Int), .slice A4 d.length c4]) rfl rfl rfl (load_bk (cs := [.int .u8 (u.toNat : Int), .slice A4 d.length c4]) ((hZ5.out.setCell 0 _).setCell 1 _) Tryz.underlying33 rfl info31) ⟨_, _, _, _, rfl, ?_, ?_, ?_, ?_⟩
  · exact (hD5.out.only hs (by omega)).lower (by omega)
  · exact (hS5.out.only hs (by omega)).lower (by omega)
  · exact hR5.only hs hgl
  · exact (hO1.out.trans hO5'.out).tb (((Below.refl w.heap.size w5).setCell (Nat.le_refl _) _).setCell (Nat.le_refl _) _) (Nat.le_refl _)

theorem parts_ok {g : Nat} {l : List UInt8} (w : World) (hR : Rdr w g l 0) (hl : l.length ≤ 4294967296) (h : (parse l).err = 0) : Calls Tryz.prog 146 #[.pointer (some ⟨g, 0, none⟩)] w (PartOk w g (parse l)) := by
  rcases l with _ | ⟨u, t⟩
  · cases h
  · rw [parse] at h ⊢
    by_cases hu : u = 0
    · rw [if_pos hu] at h; cases h
    · rw [if_neg hu] at h ⊢
      generalize q1 : rdNum t 0 = q at h ⊢
      obtain ⟨M, l1, e1⟩ := q
      simp only at h ⊢
      generalize q2 : tk M l1 e1 = q at h ⊢
      obtain ⟨d, l2, e2⟩ := q
      simp only at h ⊢
      generalize q3 : tk 8 l2 e2 = q at h ⊢
      obtain ⟨s, l3, e3⟩ := q
      simp only at h ⊢
      by_cases hn : 8192 < M
      · rw [if_pos hn] at h; cases h
      · rw [if_neg hn] at h ⊢
        simp only at h
        subst h
        refine (parts_all w hR hl hu (by omega) q1 q2 q3).mono ?_
        rintro e w' ⟨A, n, c, v2, rfl, h1, h2, h3, h4⟩
        exact ⟨A, n, c, v2, rfl, h1, h2, h3, h4⟩
theorem parts_bad {g : Nat} {l : List UInt8} (w : World) (hR : Rdr w g l 0) (hl : l.length ≤ 4294967296) (h : (parse l).err ≠ 0) : Calls Tryz.prog 146 #[.pointer (some ⟨g, 0, none⟩)] w (PartBad w g (parse l).err) := by
  rcases l with _ | ⟨u, t⟩
  · exact parts_nil w hR
  · rw [parse] at h ⊢
    by_cases hu : u = 0
    · rw [if_pos hu]
      subst hu
      exact parts_zero w hR hl
    · rw [if_neg hu] at h ⊢
      by_cases hn : 8192 < (rdNum t 0).1
      · rw [if_pos hn]
        exact parts_big w hR hl hu hn
      · rw [if_neg hn] at h ⊢
        clear h
        generalize q1 : rdNum t 0 = q at hn ⊢
        obtain ⟨M, l1, e1⟩ := q
        simp only at hn ⊢
        generalize q2 : tk M l1 e1 = q
        obtain ⟨d, l2, e2⟩ := q
        simp only
        generalize q3 : tk 8 l2 e2 = q
        obtain ⟨s, l3, e3⟩ := q
        simp only
        refine (parts_all w hR hl hu (by omega) q1 q2 q3).mono ?_
        rintro e w' ⟨A, n, c, v2, rfl, h1, h2, h3, h4⟩
        exact ⟨_, A, n, c, v2, rfl, h4⟩
end Go.Proofs.YtgpfognglpfmoaaGreatDoor
end
section
/- record: Read. -/
namespace Go.Proofs.YtgpfognglpfmoaaGreatDoor
set_option maxRecDepth 8192
set_option linter.unusedSimpArgs false
set_option linter.unusedVariables false
open Go.RowKit

/-- Read has read a record. -/
def ReadOk (w : World) (S : List UInt8) (k : UInt8) (d : List UInt8) (sz : Nat) (e : Ending) (w' : World) : Prop :=
  ∃ A n c, e = .returned (.tuple #[.agg #[.int .u8 (k.toNat : Int), .slice A n c], .int .i64 (sz : Int), .agg (cs8 S).toArray, .int .i64 0]) ∧ Ow w' w.heap.size (.slice A n c) d ∧ Below w.heap.size w w'
/-- Read has read none. -/
def ReadBad (w : World) (err : Int) (e : Ending) (w' : World) : Prop :=
  e = .returned (.tuple #[.agg #[.int .u8 0, .slice none 0 0], .int .i64 0, .agg z36.toArray, .int .i64 err]) ∧ Below w.heap.size w w'

/-- What lies behind the blocks that Read lays first. -/
structure Laid3 (w w1 : World) (C : List UInt8) : Prop where
  bel : Below w.heap.size w w1
  c : Bk w1 w.heap.size (cs8 C)
  r : Bk w1 (w.heap.size + 1) z31
  d : Bk w1 (w.heap.size + 1 + 1) z36
theorem Laid3.mk0 (w : World) (C : List UInt8) : Laid3 w (((w.alloc (.cells (cs8 C).toArray 59)).alloc (.cells #[.int .u8 0, .slice none 0 0] 33)).alloc (.cells z36.toArray 59)) C := by
  refine ⟨bl_alloc (bl_alloc (bl_alloc (bl0 w) _) _) _, ((Bk.new w (cs8 C) 59).old _).old _, ?_, ?_⟩
  · have := (Bk.new (w.alloc (.cells (cs8 C).toArray 59)) z31 33).old (.cells z36.toArray 59)
    rwa [show (w.alloc (.cells (cs8 C).toArray 59)).heap.size = w.heap.size + 1 from by simp] at this
  · have := Bk.new ((w.alloc (.cells (cs8 C).toArray 59)).alloc (.cells #[.int .u8 0, .slice none 0 0] 33)) z36 59
    simpa using this
theorem Laid3.keep {w w1 w2 : World} {C : List UInt8} (h : Laid3 w w1 C) (hb : Below w1.heap.size w1 w2) : Laid3 w w2 C := ⟨bl_call h.bel hb, h.c.keep hb, h.r.keep hb, h.d.keep hb⟩
theorem Laid3.lt {w w1 : World} {C : List UInt8} (h : Laid3 w w1 C) : w.heap.size + 1 + 1 < w1.heap.size := h.d.lt
theorem Laid3.only {w w1 w2 : World} {g : Nat} {C : List UInt8} (h : Laid3 w w1 C) (hO : Only g w1 w2) (hg : w.heap.size + 1 + 1 < g) : Laid3 w w2 C :=
  ⟨h.bel.trans (hO.below (by omega) h.bel.size), Sk.only h.c hO (by omega), Sk.only h.r hO (by omega), Sk.only h.d hO (by omega)⟩

set_option maxHeartbeats 1600000 in
theorem Read_bad1 {A : Option Addr} {n c : Nat} {C l : List UInt8} (w : World) (hr : Rd w w.heap.size A n c l) (hn : n ≤ 1073741824) (h : (parse l).err ≠ 0) :
    Calls Tryz.prog 126 #[.agg (cs8 C).toArray, .slice A n c] w (ReadBad w (parse l).err) := by
  have HR := Lib.hid hr
  have hln := hr.len
  have HP := Lib.hid (fun (W : World) (g : Nat) (k : Rdr W g l 0) => parts_bad W k (by omega) h)
  have hne : ((parse l).err == 0) = false := by rw [beq_eq_false_iff_ne]; exact h
  generalize (parse l).err = E at HP hne ⊢
  have HL := Lib.hid (Laid3.mk0 w C)
  clear hr h hln
  go_enter Tryz.func126, Tryz.ntmps126
  go_wp2_with (refine wpList_alloc_z rfl 59 rfl z36 zero36 ?_)
  generalize (((w.alloc (.cells (cs8 C).toArray 59)).alloc (.cells #[.int .u8 0, .slice none 0 0] 33)).alloc (.cells z36.toArray 59)) = w1 at HL ⊢
  refine (Read_any w1 (HR.out.top HL.out.bel) (by omega)).mono ?_; rintro e w2 ⟨g, rfl, hg, hRd, hb⟩
  have HL2 := Lib.hid (HL.out.keep hb)
  have hlt := HL.out.lt
  clear hb HL
  go_wp2_with fail
  refine (HP.out _ _ hRd).mono ?_; rintro e w3 ⟨k3, A3, n3, c3, v3, rfl, hO3⟩
  have HL3 := Lib.hid (HL2.out.only hO3 (by omega))
  clear hO3 HL2 hRd
  have hlt3 := HL3.out.lt
  have HL4 := Lib.hid (HL3.out.keep (bl_alloc (bl0 w3) (.cells #[.int .u8 k3, .slice A3 n3 c3] 33)))
  have hc0 := HL4.out.r.cell (k := 0) rfl
  have hc1 := HL4.out.r.cell (k := 1) rfl
  have hf0 := HL4.out.r.frozen 0
  have hf1 := HL4.out.r.frozen 1
  have hs1 := (Only.set (w3.alloc (.cells #[.int .u8 k3, .slice A3 n3 c3] 33)) 0 (.int .u8 0) (g := w.heap.size + 1)).trans (Only.set _ 1 (.slice none 0 0))
  have HZ5 := Lib.hid (Sk.only HL4.out.d hs1 (by omega))
  have HR5 := Lib.hid ((HL4.out.r.setCell 0 (.int .u8 0)).setCell 1 (.slice none 0 0))
  have HB5 := Lib.hid (bl_only HL4.out.bel hs1 (by omega))
  clear hs1
  go_wp2_with (first | (refine wpList_store_bk rfl 59 _ _ rfl (w.heap.size + 1 + 1) rfl z36 z36 rfl HZ5.out (by kernel_rfl) rfl all_z36 ?_))
  refine ret_ctct rfl rfl rfl (load_bk (cs := [.int .u8 0, .slice none 0 0]) (HR5.out.other (by omega) _) Tryz.underlying33 rfl info31) rfl (load_bk (HZ5.out.setRow z36) Tryz.underlying59 rfl (by kernel_rfl)) ⟨rfl, bl_setRow HB5.out (by omega) _⟩

/-- What lies when the chain behind a part has been reckoned. -/
structure Laid5 (w w1 : World) (C S : List UInt8) (k : UInt8) (A : Option Addr) (n c : Nat) (b9 b12 : Nat) : Prop where
  l : Laid3 w w1 C
  p : Bk w1 b9 [.int .u8 (k.toNat : Int), .slice A n c]
  s : Bk w1 b12 (cs8 S)
  hp : w.heap.size + 1 + 1 < b9
  hs : b9 < b12
theorem Laid5.keep {w w1 w2 : World} {C S : List UInt8} {k : UInt8} {A : Option Addr} {n c b9 b12 : Nat} (h : Laid5 w w1 C S k A n c b9 b12) (hb : Below w1.heap.size w1 w2) : Laid5 w w2 C S k A n c b9 b12 :=
  ⟨h.l.keep hb, h.p.keep hb, h.s.keep hb, h.hp, h.hs⟩

set_option maxHeartbeats 1600000 in
theorem Read_bad2 {A : Option Addr} {n c : Nat} {C l : List UInt8} (w : World) (hC : C.length = 32) (hr : Rd w w.heap.size A n c l) (hn : n ≤ 1073741824) (h : (parse l).err = 0) (ht : (parse l).told ≠ (nextR C (parse l).kind (parse l).data).take 8) :
    Calls Tryz.prog 126 #[.agg (cs8 C).toArray, .slice A n c] w (ReadBad w 4) := by
  have HR := Lib.hid hr
  have hln := hr.len
  have HP := Lib.hid (fun (W : World) (g : Nat) (k : Rdr W g l 0) => parts_ok W k (by omega) h)
  have hpb := parse_back l h
  have hd8 := hpb.2.1.2
  have HL := Lib.hid (Laid3.mk0 w C)
  generalize parse l = p at HP ht hd8
  obtain ⟨k, d, s, t, err⟩ := p
  simp only at HP ht hd8
  have HN := Lib.hid (fun (W : World) (B : Option Addr) (m q : Nat) (hh : Rd W W.heap.size B m q d) => Next_any k W hC hh (by have := hh.len; omega))
  have HC8 := Lib.hid (show (cs8 C).length = 32 by rw [cs8_length, hC])
  have HS8 := Lib.hid (show (cs8 (nextR C k d)).length = 32 by rw [cs8_length, nextR_length])
  have HSL := Lib.hid (nextR_length C k d)
  have HT := Lib.hid ht
  generalize nextR C k d = S at HN HS8 HSL HT
  clear hr h hln ht hpb hC
  go_enter Tryz.func126, Tryz.ntmps126
  go_wp2_with (refine wpList_alloc_z rfl 59 rfl z36 zero36 ?_)
  generalize (((w.alloc (.cells (cs8 C).toArray 59)).alloc (.cells #[.int .u8 0, .slice none 0 0] 33)).alloc (.cells z36.toArray 59)) = w1 at HL ⊢
  refine (Read_any w1 (HR.out.top HL.out.bel) (by omega)).mono ?_; rintro e w2 ⟨g, rfl, hg, hRd, hb⟩
  have HL2 := Lib.hid (HL.out.keep hb)
  have hlt := HL.out.lt
  clear hb HL
  go_wp2_with fail
  refine (HP.out _ _ hRd).mono ?_; rintro e w3 ⟨A3, n3, c3, v3, rfl, hD3, hT3, hR3, hO3⟩
  have HL3 := Lib.hid (HL2.out.only hO3 (by omega))
  have hlt3 := HL3.out.lt
  obtain ⟨A4, c4, rfl, hr4⟩ := hT3.rdN rfl
  obtain ⟨A5, c5, e5, hr5⟩ := hD3.rdN rfl
  injection e5 with e51 e52 e53
  subst e51 e52 e53
  have HL4 := Lib.hid (HL3.out.keep (bl_alloc (bl0 w3) (.cells #[.int .u8 (k.toNat : Int), .slice A3 d.length c3] 33)))
  have HB4 := Lib.hid (Bk.new w3 [.int .u8 (k.toNat : Int), .slice A3 d.length c3] 33)
  have HT4 := Lib.hid (hr4.top (bl_alloc (bl0 w3) (.cells #[.int .u8 (k.toNat : Int), .slice A3 d.length c3] 33)))
  have HD4 := Lib.hid (hr5.top (bl_alloc (bl0 w3) (.cells #[.int .u8 (k.toNat : Int), .slice A3 d.length c3] 33)))
  clear hO3 HL2 hRd HL3 hD3 hT3 hr4 hr5 hR3
  go_wp2_with (first | (refine wpList_load_at rfl 59 _ rfl ⟨w.heap.size, 0, none⟩ rfl (cs8 C) _ HL4.out.c.at_ Tryz.underlying59 rfl (by rw [HC8.out]; exact info36) ?_))
  generalize hw4 : w3.alloc (.cells #[.int .u8 (k.toNat : Int), .slice A3 d.length c3] 33) = w4 at HL4 HB4 HT4 HD4 ⊢
  generalize w3.heap.size = b9 at hlt3 HB4 ⊢
  clear hw4
  refine (HN.out _ _ _ _ HD4.out).mono ?_; rintro e w5 ⟨rfl, hb⟩
  have HL5 := Lib.hid (HL4.out.keep hb)
  have HB5 := Lib.hid (HB4.out.keep hb)
  have HT5 := Lib.hid (HT4.out.top hb)
  clear hb HL4 HB4 HT4 HD4
  have hN6 := Lib.hid (Bk.new w5 z36 59)
  have hL6 := Lib.hid (hN6.out.setRow (cs8 S))
  have hbb : Below w5.heap.size w5 ((w5.alloc (.cells z36.toArray 59)).setRow w5.heap.size (cs8 S).toArray) := bl_setRow (bl_alloc (bl0 w5) _) (Nat.le_refl _) _
  have HL6 := Lib.hid (HL5.out.keep hbb)
  have HT6 := Lib.hid (HT5.out.top hbb)
  have hb56 := HB5.out.lt
  have hsl := run_slice_hi (g := w5.heap.size) Tryz.underlying59 (show 8 ≤ 32 by decide) (by decide)
  clear hbb HL5 HT5 HB5
  go_wp2_with (first | (refine wpList_alloc_z rfl 59 rfl z36 zero36 ?_) | (refine wpList_store_bk rfl 59 _ _ rfl w5.heap.size rfl (cs8 S) z36 rfl hN6.out (by rw [HS8.out]; exact info36) (by rw [HS8.out]; exact len_z36) (cs8_all _) ?_))
  generalize (w5.alloc (.cells z36.toArray 59)).setRow w5.heap.size (cs8 S).toArray = w6 at hL6 HL6 HT6 ⊢
  generalize w5.heap.size = b12 at hb56 hL6 hsl ⊢
  refine (Equal_no w6 HT6.out ((hL6.out.sl HSL.out).rd.take_ (k := 8) (by decide)) HT.out).mono ?_; rintro e w' ⟨rfl, rfl⟩
  have hlt6 := HL6.out.lt
  have hc0 := HL6.out.r.cell (k := 0) rfl
  have hc1 := HL6.out.r.cell (k := 1) rfl
  have hf0 := HL6.out.r.frozen 0
  have hf1 := HL6.out.r.frozen 1
  have hs1 := (Only.set w6 0 (.int .u8 0) (g := w.heap.size + 1)).trans (Only.set _ 1 (.slice none 0 0))
  have HZ7 := Lib.hid (Sk.only HL6.out.d hs1 (by omega))
  have HR7 := Lib.hid ((HL6.out.r.setCell 0 (.int .u8 0)).setCell 1 (.slice none 0 0))
  have HB7 := Lib.hid (bl_only HL6.out.bel hs1 (by omega))
  clear hs1 hsl
  go_wp2_with (first | (refine wpList_store_bk rfl 59 _ _ rfl (w.heap.size + 1 + 1) rfl z36 z36 rfl HZ7.out (by kernel_rfl) rfl all_z36 ?_))
  refine ret_ctct rfl rfl rfl (load_bk (cs := [.int .u8 0, .slice none 0 0]) (HR7.out.other (by omega) _) Tryz.underlying33 rfl info31) rfl (load_bk (HZ7.out.setRow z36) Tryz.underlying59 rfl (by kernel_rfl)) ⟨rfl, bl_setRow HB7.out (by omega) _⟩
end Go.Proofs.YtgpfognglpfmoaaGreatDoor
end
