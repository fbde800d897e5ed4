package curve

import (
	"headwater/api"
	"headwater/field"
)

// extended is a point without divisions: its X is x / z, its Y is y / z, and t is x y / z. Sums are made by products alone; z is never 0.
type extended struct {
	x, y, z, t api.Num
}

func extend(p *api.Point) extended {
	return extended{x: p.X, y: p.Y, z: field.Of(1), t: field.Mul(p.X, p.Y)}
}

func (e *extended) point() api.Point {
	by := field.Inv(e.z)
	return api.Point{X: field.Mul(e.x, by), Y: field.Mul(e.y, by)}
}

// add adds f to e. Any two points have a sum this way, the same one twice too.
func (e *extended) add(f *extended) {
	less := field.Mul(field.Sub(e.y, e.x), field.Sub(f.y, f.x))
	more := field.Mul(field.Add(e.y, e.x), field.Add(f.y, f.x))
	dt := field.Mul(D(), field.Mul(e.t, f.t))
	z := field.Mul(e.z, f.z)
	// What more and less come to is twice what the sum asks for, so all the rest is doubled.
	e.set(field.Sub(more, less), field.Add(more, less), twice(field.Add(z, dt)), twice(field.Sub(z, dt)))
}

// double adds e to itself. A point is on the curve, so 1 and d xx yy is yy less xx, and 1 less d xx yy is 2 less that: D is not needed.
func (e *extended) double() {
	xx, yy, zz := field.Mul(e.x, e.x), field.Mul(e.y, e.y), field.Mul(e.z, e.z)
	xy := field.Mul(e.x, e.y)
	belowX := field.Sub(yy, xx)
	e.set(twice(xy), field.Add(yy, xx), belowX, field.Sub(twice(zz), belowX))
}

// set makes e the point whose X is aboveX / belowX, and Y aboveY / belowY.
func (e *extended) set(aboveX, aboveY, belowX, belowY api.Num) {
	e.x = field.Mul(aboveX, belowY)
	e.y = field.Mul(aboveY, belowX)
	e.z = field.Mul(belowX, belowY)
	e.t = field.Mul(aboveX, aboveY)
}

func twice(a api.Num) api.Num { return field.Add(a, a) }
