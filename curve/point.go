package curve

import (
	"bytes"

	"pawl/field"
)

// The number d of the curve -x x + y y = 1 + d x x y y is -upper / lower.
const (
	upper = 121665
	lower = 121666
)

const oddBit = 0x80 // in the last byte of a point: x is odd

// Point is a point of the twisted curve: x = X / Z, y = Y / Z, and T = X Y / Z.
type Point struct{ X, Y, Z, T field.Elem }

// Origin returns the point 0, 1, which changes nothing in a sum.
func Origin() Point { return flat(field.Num(0), field.Num(1)) }

// At returns the point with that y whose x is odd or even, or false if there is none.
func At(y field.Elem, odd bool) (Point, bool) {
	// x x = (y y - 1) / (1 + d y y), whose divisor is never 0; both are multiplied by lower.
	square := field.Square(y)
	over := times(lower, field.Sub(square, field.Num(1)))
	under := field.Sub(field.Num(lower), times(upper, square))
	x, ok := field.Root(field.Mul(over, field.Inv(under)))
	if !ok {
		return Point{}, false
	}
	if field.Odd(x) != odd {
		x = field.Neg(x)
	}
	if field.Odd(x) != odd { // x is 0
		return Point{}, false
	}
	return flat(x, y), true
}

// Start returns the point whose y is 4 / 5, and whose x is even.
func Start() Point {
	p, _ := At(field.Mul(field.Num(4), field.Inv(field.Num(5))), false)
	return p
}

// Add returns the sum of p and q, which may be the same point.
func Add(p, q Point) Point {
	// With T = X Y / Z of both, d x1 x2 y1 y2 is d T1 T2 / Z1 Z2. All four are multiplied by lower.
	xOver := times(lower, field.Add(field.Mul(p.X, q.Y), field.Mul(p.Y, q.X)))
	yOver := times(lower, field.Add(field.Mul(p.Y, q.Y), field.Mul(p.X, q.X)))
	ones := times(lower, field.Mul(p.Z, q.Z))
	turn := times(upper, field.Mul(p.T, q.T))
	xUnder, yUnder := field.Sub(ones, turn), field.Add(ones, turn)
	return Point{
		X: field.Mul(xOver, yUnder),
		Y: field.Mul(yOver, xUnder),
		Z: field.Mul(xUnder, yUnder),
		T: field.Mul(xOver, yOver),
	}
}

// Neg returns the point -x, y, which takes p away in a sum.
func Neg(p Point) Point { return Point{field.Neg(p.X), p.Y, p.Z, field.Neg(p.T)} }

// Times returns p multiplied by the number n, whose lowest byte is first.
func Times(p Point, n [32]byte) Point {
	out := Origin()
	for i := range 8 * len(n) {
		if bit(n, i) {
			out = Add(out, p)
		}
		p = Add(p, p)
	}
	return out
}

// Same reports whether p and q are the same point.
func Same(p, q Point) bool {
	return field.Same(field.Mul(p.X, q.Z), field.Mul(q.X, p.Z)) &&
		field.Same(field.Mul(p.Y, q.Z), field.Mul(q.Y, p.Z))
}

// Bytes returns y in 32 bytes, the lowest first, and in their highest bit whether x is odd.
func Bytes(p Point) []byte {
	inverse := field.Inv(p.Z)
	out := field.Bytes(field.Mul(p.Y, inverse))
	if field.Odd(field.Mul(p.X, inverse)) {
		out[size-1] |= oddBit
	}
	return out
}

// Read returns the point whose Bytes are b, or false if there is none.
func Read(b []byte) (Point, bool) {
	if len(b) != size {
		return Point{}, false
	}
	p, ok := At(field.Read(b), b[size-1]&oddBit != 0)
	// Bytes of a y beyond the modulus are those of no point.
	if !ok || !bytes.Equal(Bytes(p), b) {
		return Point{}, false
	}
	return p, true
}

func flat(x, y field.Elem) Point { return Point{x, y, field.Num(1), field.Mul(x, y)} }

func times(n uint32, a field.Elem) field.Elem { return field.Mul(field.Num(n), a) }
