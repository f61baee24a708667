package message_test

import (
	"math/rand"
	"strings"
	"testing"

	"herald/api"
	"herald/lists"
)

func one[T any](r *rand.Rand, l ...T) T { return l[r.Intn(len(l))] }

func randomPlain(r *rand.Rand) api.Field {
	return api.Field{
		Name:  one(r, "content-length", "content-length", "content-length", "content-type", "accept", "x", "te", "Accept", "connection", ":path", ""),
		Value: one(r, "", "0", "1", "3", "3", "5", "007", "40", "65536", "65537", "2147483647", "2147483648", "99999999999", "-1", "+3", "3a", " 3", "trailers", "\n"),
		Never: r.Intn(3) == 0,
	}
}

// randomList is most often a right one.
func randomList(r *rand.Rand) []api.Field {
	l := lists.Of(":status", one(r, "200", "200", "200", "204", "304", "404", "599", "100", "199", "20"))
	if r.Intn(2) == 0 {
		l = someRequest()
		l[0].Value = one(r, "GET", "HEAD", "POST")
	}
	r.Shuffle(len(l), func(i, j int) { l[i], l[j] = l[j], l[i] })
	if r.Intn(2) == 0 {
		l = append(l, declares(one(r, "0", "1", "2", "3", "7", "0012", "100", "65535", "65536", "70000")))
	}
	for range one(r, 0, 0, 0, 1, 1, 2, 4) {
		l = lists.Put(l, r.Intn(len(l)+1), randomPlain(r))
	}
	if r.Intn(20) == 0 {
		l = lists.Filled(l, 63+r.Intn(4))
	}
	return l
}

func randomPiece(r *rand.Rand, left int) string {
	switch r.Intn(12) {
	case 0, 1, 2:
		return ""
	case 3, 4:
		return text(max(left, 0) % 70000)
	case 5:
		return text(max(left+one(r, -1, 1), 0) % 70000)
	case 6:
		return text(one(r, 65535, 65536, 65537, 60000, 30000))
	}
	return text(r.Intn(4))
}

// TestRandomCalls: any lists, any calls behind them, against the model.
func TestRandomCalls(t *testing.T) {
	r := rand.New(rand.NewSource(1414))
	taken, whole, broken := 0, 0, 0
	for range 20000 {
		l := randomList(r)
		request := strings.HasPrefix(l[0].Name, ":") && l[0].Name != ":status"
		if r.Intn(10) == 0 {
			request = !request
		}
		b := newBoth(t, request, one(r, "GET", "GET", "HEAD", "head", "", "POST"), l)
		if b == nil {
			continue
		}
		taken++
		for range 1 + r.Intn(6) {
			left := r.Intn(5)
			if n, declared := b.want.length(); declared {
				left = int(n.Int64()) - len(b.want.body())
			}
			if r.Intn(6) == 0 {
				b.End(t)
			} else {
				b.Data(t, randomPiece(r, left), r.Intn(4) == 0)
			}
		}
		switch b.want.now {
		case "whole":
			whole++
		case "broken":
			broken++
		}
	}
	if taken < 5000 || whole < 1000 || broken < 1000 {
		t.Errorf("of the random lists %d were taken, %d got whole, %d broke: too few to tell", taken, whole, broken)
	}
}

// TestAlike: R4, the same calls on new messages answer the same, whatever else is
// made and asked in between.
func TestAlike(t *testing.T) {
	r := rand.New(rand.NewSource(41))
	for range 300 {
		l := randomList(r)
		a := newBoth(t, l[0].Name != ":status", "GET", l)
		b := newBoth(t, l[0].Name != ":status", "GET", l)
		if a == nil {
			continue
		}
		for range 5 {
			piece, end := randomPiece(r, 3), r.Intn(5) == 0
			ea := a.Data(t, piece, end)
			newBoth(t, true, "", someRequest(declares("1"))).Data(t, "ab", true)
			if eb := b.Data(t, piece, end); ea != eb || a.body() != b.body() || a.m.Whole() != b.m.Whole() {
				t.Fatalf("R4: %v: %d and %d", a.done, ea, eb)
			}
		}
	}
}

// FuzzCalls: a list out of some texts, then calls as the bytes say.
func FuzzCalls(f *testing.F) {
	f.Add(true, "GET", "200", "5", "x", []byte{3, 0, 2, 1})
	f.Add(false, "HEAD", "200", "5", "content-length", []byte{1})
	f.Add(false, "GET", "304", "0000000007", "a", []byte{0, 1})
	f.Add(false, "GET", "199", "2147483648", "a", []byte{255, 254, 253})
	f.Fuzz(func(t *testing.T, request bool, method, status, length, name string, calls []byte) {
		l := someResponse(status, declares(length), p(name, length))
		if request {
			l = someRequest(declares(length), p(name, status))
		}
		b := newBoth(t, request, method, l)
		if b == nil {
			l = l[:len(l)-1]
			b = newBoth(t, request, method, l)
		}
		if b == nil {
			b = newBoth(t, request, method, l[:len(l)-1])
		}
		if b == nil {
			return
		}
		for _, c := range calls {
			size := int(c / 4)
			if c >= 240 {
				size = 65536 - 15 + int(c%32)
			}
			if c%4 == 3 {
				b.End(t)
			} else {
				b.Data(t, text(size), c%4 == 2)
			}
		}
	})
}
