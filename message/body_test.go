package message_test

import (
	"fmt"
	"math/rand"
	"strings"
	"testing"

	"herald/api"
	"herald/lists"
	"herald/message"
)

// text is so many bytes, of which no two parts that lie close are alike; with
// bytes of every kind.
func text(n int) string {
	b := make([]byte, n)
	for i := range b {
		b[i] = byte(i*7 + i/256)
	}
	return string(b)
}

// heads are messages of both kinds with a length declared ("": none), fresh at each call.
func heads(t *testing.T, length string) []*both {
	t.Helper()
	var more []api.Field
	if length != "" {
		more = append(more, declares(length))
	}
	return []*both{
		begun(t, true, "HEAD", someRequest(more...)), response(t, "200", more...),
		begun(t, false, "HEAD", someResponse("404", more...)), response(t, "204", more...), response(t, "304", more...),
	}
}

// sizes are those next to which something changes.
var sizes = []int{0, 1, 2, 5, 255, 16384, 65535, 65536, 65537, 65538, 70000, 131072, 200000}

var lengths = []string{"", "0", "1", "2", "5", "255", "16384", "65535", "65536", "65537", "65538", "70000", "131072", "2147483647"}

// TestWholeByItsLength: P14.3, in one piece: bodies at the edges of what is
// declared and of the greatest.
func TestWholeByItsLength(t *testing.T) {
	for _, length := range lengths {
		for _, n := range sizes {
			for _, end := range []bool{true, false} {
				for i, b := range heads(t, length) {
					body := text(n)
					b.Data(t, body, end)
					if !end {
						b.End(t)
					}
					want := n <= 65536 && (length == "" || length == fmt.Sprint(n))
					if i >= 2 {
						want = n == 0
					}
					if b.m.Whole() != want || want && b.body() != body {
						t.Errorf("P14.3: %v: Whole() = %v, want %v", b.done, b.m.Whole(), want)
					}
				}
			}
		}
	}
}

// TestErrorsInTheirOrder: ErrState ahead of ErrLong ahead of ErrBody.
func TestErrorsInTheirOrder(t *testing.T) {
	long := text(65537)
	for _, end := range []bool{true, false} {
		for _, length := range []string{"", "0", "5", "65536", "65537", "70000"} {
			for _, b := range heads(t, length) {
				b.wantData(t, long, end, api.ErrLong)
				b.wantWhole(t, false, "")
				b.wantData(t, long, end, api.ErrState)
				b.wantData(t, "abcdef", end, api.ErrState)
			}
		}
		b := response(t, "200", declares("3"))
		b.wantData(t, "ab", false, api.OK)
		b.wantData(t, text(65534), end, api.ErrBody)
		b.wantWhole(t, false, "ab")
		b = response(t, "200", declares("3"))
		b.wantData(t, "ab", false, api.OK)
		b.wantData(t, text(65535), end, api.ErrLong)
		b.wantWhole(t, false, "ab")
		b.wantData(t, "c", true, api.ErrState)
		b = response(t, "304")
		b.wantData(t, text(65536), end, api.ErrBody)
		b.wantData(t, long, end, api.ErrState)
		b = response(t, "200", declares("65537"))
		b.wantData(t, text(65536), end, map[bool]api.Errno{false: api.OK, true: api.ErrBody}[end])
	}
}

// TestEmptyPieces: they change nothing, and with end they end.
func TestEmptyPieces(t *testing.T) {
	for _, length := range []string{"", "0", "3"} {
		for _, b := range heads(t, length) {
			for range 5 {
				b.wantData(t, "", false, api.OK)
				b.wantWhole(t, false, "")
			}
			want := api.OK
			if length == "3" && !b.want.bodiless() {
				want = api.ErrBody
			}
			b.wantData(t, "", true, want)
			b.wantWhole(t, want == api.OK, "")
		}
	}
	b := response(t, "200", declares("3"))
	for _, piece := range []string{"", "a", "", "", "bc", "", ""} {
		b.wantData(t, piece, false, api.OK)
	}
	b.wantWhole(t, false, "abc")
	b.wantData(t, "", true, api.OK)
	b.wantWhole(t, true, "abc")
	b = response(t, "200")
	b.wantData(t, text(65536), false, api.OK)
	b.wantData(t, "", false, api.OK)
	b.wantEnd(t, api.OK)
	b.wantWhole(t, true, text(65536))
}

// TestAtLengthIsNotWhole: only an end ends.
func TestAtLengthIsNotWhole(t *testing.T) {
	b := response(t, "200", declares("3"))
	b.wantData(t, "abc", false, api.OK)
	b.wantWhole(t, false, "abc")
	b.wantData(t, "d", false, api.ErrBody)
	b.wantWhole(t, false, "abc")
	b.wantEnd(t, api.ErrState)
}

// TestBehindTheEnd: P14.4, of every kind of message, ended and broken in every way.
func TestBehindTheEnd(t *testing.T) {
	after := []struct {
		text string
		end  bool
	}{{"", false}, {"", true}, {"a", false}, {"a", true}, {"abc", true}, {text(65536), false}, {text(65537), true}}
	for _, length := range []string{"", "0", "3", "70000"} {
		for i := range heads(t, length) {
			for _, piece := range []string{"", "a", "abc", "abcd", text(65536), text(65537)} {
				for _, first := range after {
					b := heads(t, length)[i]
					b.Data(t, piece, true)
					whole, body := b.m.Whole(), b.body()
					if e := b.m.Data(first.text, first.end); e != api.ErrState {
						t.Fatalf("P14.4: %v: Data(%s, %v): %d", b.done, lists.ShownText(first.text), first.end, e)
					}
					b.look(t, "P14.4")
					for _, call := range after {
						b.wantData(t, call.text, call.end, api.ErrState)
						b.wantEnd(t, api.ErrState)
					}
					if b.m.Whole() != whole || b.body() != body {
						t.Errorf("P14.4: %v: Whole() = %v, %s, was %v, %s", b.done, b.m.Whole(), lists.ShownText(b.body()), whole, lists.ShownText(body))
					}
				}
			}
		}
	}
}

// outcome is how a message ends: its body if it is whole.
func outcome(m *message.Message) (bool, string) {
	if !m.Whole() {
		return false, ""
	}
	return true, m.Request().Body + m.Response().Body
}

// cuts are all ways to cut a text into so many pieces, empty ones too.
func cuts(s string, n int) [][]string {
	if n == 1 {
		return [][]string{{s}}
	}
	var all [][]string
	for i := 0; i <= len(s); i++ {
		for _, rest := range cuts(s[i:], n-1) {
			all = append(all, append([]string{s[:i]}, rest...))
		}
	}
	return all
}

// TestEveryCut: P14.2, all ways to cut small bodies into up to five pieces.
func TestEveryCut(t *testing.T) {
	for n := range 6 {
		body := "abcdef"[:n]
		for _, length := range []string{"", "0", "1", "2", "3", "4", "5", "6"} {
			for i, one := range heads(t, length) {
				one.Data(t, body, true)
				want, wantBody := outcome(one.m)
				if want && wantBody != body {
					t.Fatalf("P14.2: %v: whole with %q", one.done, wantBody)
				}
				for pieces := 1; pieces <= 5; pieces++ {
					for _, cut := range cuts(body, pieces) {
						for _, behind := range []bool{true, false} {
							wantCut(t, heads(t, length)[i].m, cut, behind, want, wantBody)
						}
					}
				}
			}
		}
	}
}

// wantCut: a body in pieces, its end at the last piece or behind it.
func wantCut(t *testing.T, m *message.Message, cut []string, behind, want bool, body string) {
	t.Helper()
	for i, piece := range cut {
		m.Data(piece, !behind && i == len(cut)-1)
	}
	if behind {
		m.End()
	}
	if got, gotBody := outcome(m); got != want || gotBody != body {
		var lines []string
		for _, piece := range cut {
			lines = append(lines, lists.ShownText(piece))
		}
		t.Fatalf("P14.2: in the pieces %.300s, an End behind them %v: whole %v with %s, in one piece %v with %s", strings.Join(lines, " "), behind, got, lists.ShownText(gotBody), want, lists.ShownText(body))
	}
	for _, e := range []api.Errno{m.Data("", false), m.End()} {
		if e != api.ErrState {
			t.Fatalf("P14.4: behind the end of %d pieces: %d", len(cut), e)
		}
	}
}

// TestLongCuts: P14.2, bodies near the greatest in pieces of all sizes.
func TestLongCuts(t *testing.T) {
	r := rand.New(rand.NewSource(14))
	for _, n := range []int{1000, 65536, 65537} {
		body := text(n)
		for _, length := range []string{"", fmt.Sprint(n), fmt.Sprint(n - 1), fmt.Sprint(n + 1)} {
			for i, one := range heads(t, length)[:3] {
				one.Data(t, body, true)
				want, wantBody := outcome(one.m)
				for _, size := range []int{1, 2, 255, 4096, 16384, 65535, 65536} {
					wantCut(t, heads(t, length)[i].m, evenly(body, size), size%2 == 0, want, wantBody)
				}
				for k := range 6 {
					wantCut(t, heads(t, length)[i].m, randomly(r, body), k%2 == 0, want, wantBody)
				}
			}
		}
	}
}

func evenly(s string, size int) []string {
	var pieces []string
	for ; len(s) > size; s = s[size:] {
		pieces = append(pieces, s[:size])
	}
	return append(pieces, s)
}

func randomly(r *rand.Rand, s string) []string {
	most := []int{2, 100, 20000, 70000}[r.Intn(4)]
	var pieces []string
	for s != "" {
		n := min(r.Intn(most), len(s))
		pieces, s = append(pieces, s[:n]), s[n:]
	}
	return append(pieces, "")
}
