package prim

import (
	"slices"

	"pawl/chacha"
	"pawl/curve"
	"pawl/sha"
	"pawl/sign"
)

const (
	freshLabel = "key"
	countSize  = 8 // bytes of the number of a fresh key
)

// numbers is the suite of the mode Real. The layers below take keys of any length, each in its own way: those that do not bring them to Size bytes are handed such ones.
type numbers struct {
	source []byte // the key from which the fresh ones are expanded
}

func (s numbers) fresh(n int) []byte {
	info := []byte(freshLabel)
	for i := range countSize {
		info = append(info, byte(uint64(n)>>(8*i)))
	}
	return sha.Expand(s.source, info, Size)
}

func (s numbers) public(secret []byte) []byte { return curve.Base(secret) }

func (s numbers) signKey(secret []byte) []byte { return sign.Public(fit(secret)) }

func (s numbers) agree(secret, public []byte) []byte { return curve.Mul(secret, fit(public)) }

func (s numbers) derive(key []byte, with [][]byte, label string, n int) [][]byte {
	secret := make([]byte, 0, len(with)*Size)
	for _, k := range with {
		secret = append(secret, fit(k)...)
	}
	keys := sha.Expand(sha.Extract(fit(key), secret), []byte(label), n*Size)
	return slices.Collect(slices.Chunk(keys, Size))
}

// seal and open take zero bytes as the nonce: the layers above seal once with each key.
func (s numbers) seal(key, with, text []byte) []byte { return chacha.Seal(key, nil, with, text) }

func (s numbers) open(key, with, sealed []byte) ([]byte, bool) {
	return chacha.Open(key, nil, with, sealed)
}

func (s numbers) sign(secret, msg []byte) []byte { return sign.Sign(fit(secret), msg) }

func (s numbers) check(public, msg, sig []byte) bool { return sign.Check(fit(public), msg, sig) }

func (s numbers) name(marks string) []byte { return sha.Sum([]byte(marks)) }

// fit returns key in Size bytes: truncated, or with zero bytes at the end.
func fit(key []byte) []byte {
	out := make([]byte, Size)
	copy(out, key)
	return out
}
