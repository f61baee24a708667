package trace_test

import (
	"slices"
	"testing"

	"herald/api"
)

// situation is where a stream is behind a client's log, and, turned about, behind a
// server's. Its verdicts are the codes of these frames, in order: HEADERS, with
// END_STREAM, DATA, with END_STREAM, PUSH_PROMISE on it, PUSH_PROMISE of it,
// RST_STREAM, WINDOW_UPDATE, one of nothing, PRIORITY.
type situation struct {
	name                     string
	id                       int64
	log                      []api.Entry
	clientSends, clientGets  string
	serverSends, serverGets  string
	atClient, atServer       int
	cutAtClient, cutAtServer bool
}

func situations() []situation {
	ask, post := s(head(1, ends|whole)), s(head(1, whole))
	answer := g(head(1, ends|whole))
	push, page := g(promises(1, 2)), g(head(2, whole))
	l := func(e ...api.Entry) []api.Entry { return e }
	return []situation{
		{"idle", 1, nil, "0011111110", "1111111110", "1111111110", "0011111110", idle, idle, false, false},
		{"open", 1, l(post), "0000110010", "0000010010", "0000010010", "0000110010", open, open, false, false},
		{"asked", 1, l(ask), "1111110010", "0000010010", "0000010010", "5555110010", halfLocal, halfRemote, false, false},
		{"answered", 1, l(post, answer), "0000110010", "5555110010", "1111110010", "0000110010", halfRemote, halfLocal, false, false},
		{"over", 1, l(ask, answer), "1111110010", "5555110010", "1111110010", "5555110010", closed, closed, false, false},
		{"skipped", 1, l(s(head(3, whole))), "1111110010", "5555110010", "1111110010", "5555110010", closed, closed, false, false},
		{"open, shut", 1, l(post, s(resets(1))), "5555555550", "0000010010", "1111110010", "5555555550", closed, closed, true, false},
		{"asked, shut", 1, l(ask, s(resets(1))), "5555555550", "0000010010", "1111110010", "5555555550", closed, closed, true, false},
		{"over, shut", 1, l(ask, answer, s(resets(1))), "5555555550", "5555010010", "1111110010", "5555555550", closed, closed, false, false},
		{"skipped, shut", 1, l(s(head(3, whole)), s(resets(1))), "5555555550", "5555010010", "1111110010", "5555555550", closed, closed, false, false},
		{"open, left", 1, l(post, g(resets(1))), "1111110010", "5555555550", "5555555550", "0000110010", closed, closed, false, true},
		{"over, left", 1, l(ask, answer, g(resets(1))), "1111110010", "5555555550", "5555555550", "5555110010", closed, closed, false, false},
		{"open, left, shut", 1, l(post, g(resets(1)), s(resets(1))), "5555555550", "5555555550", "5555555550", "5555555550", closed, closed, false, true},
		{"open, shut, left", 1, l(post, s(resets(1)), g(resets(1))), "5555555550", "5555555550", "5555555550", "5555555550", closed, closed, true, false},

		{"not promised", 2, l(post), "1111111110", "1111101110", "1111101110", "1111111110", idle, idle, false, false},
		{"promised", 2, l(post, push), "1111110010", "0011110110", "0011110110", "1111110010", reservedRemote, reservedLocal, false, false},
		{"pushed", 2, l(post, push, page), "1111110010", "0000110010", "0000110010", "5555110010", halfLocal, halfRemote, false, false},
		{"pushed, over", 2, l(post, push, g(head(2, ends|whole))), "1111110010", "5555110010", "1111110010", "5555110010", closed, closed, false, false},
		{"skipped", 2, l(post, g(promises(1, 4))), "1111110010", "5555110010", "1111110010", "5555110010", closed, closed, false, false},
		{"promised, shut", 2, l(post, push, s(resets(2))), "5555515550", "0000110010", "1111110010", "5555515550", closed, closed, true, false},
		{"pushed, shut", 2, l(post, push, page, s(resets(2))), "5555515550", "0000110010", "1111110010", "5555515550", closed, closed, true, false},
		{"promised, left", 2, l(post, push, g(resets(2))), "1111110010", "5555515550", "5555515550", "0000110010", closed, closed, false, true},
		{"pushed, over, shut", 2, l(post, push, g(head(2, ends|whole)), s(resets(2))), "5555515550", "5555110010", "1111110010", "5555515550", closed, closed, false, false},
	}
}

// framesOn is the frames of a situation's verdicts.
func framesOn(id int64) []api.Frame {
	return []api.Frame{head(id, whole), head(id, ends|whole), bytes(id, 0, 1), bytes(id, ends, 1), promises(id, 6), promises(1, id), resets(id), gives(id, 1), gives(id, 0), orders(id)}
}

// TestStates: every type of frame on streams of every state, shut and left.
func TestStates(t *testing.T) {
	for _, x := range situations() {
		t.Run(x.name, func(t *testing.T) {
			l := met(x.log...)
			back := turned(l)
			if at, cut := (past{l, true}).state(x.id); at != x.atClient || cut != x.cutAtClient {
				t.Errorf("the model: a client's %d is %d, %v", x.id, at, cut)
			}
			if at, cut := (past{back, false}).state(x.id); at != x.atServer || cut != x.cutAtServer {
				t.Errorf("the model: a server's %d is %d, %v", x.id, at, cut)
			}
			for i, f := range framesOn(x.id) {
				wantLast(t, true, int64(x.clientSends[i]-'0'), append(l, s(f))...)
				wantLast(t, true, int64(x.clientGets[i]-'0'), append(l, g(f))...)
				wantLast(t, false, int64(x.serverSends[i]-'0'), append(back, s(f))...)
				wantLast(t, false, int64(x.serverGets[i]-'0'), append(back, g(f))...)
			}
			for _, f := range []api.Frame{{Type: 11, Stream: x.id}, {Type: 255, Flags: 255, Stream: x.id, Data: "x"}} {
				for _, sent := range []bool{true, false} {
					wantLast(t, true, 0, append(l, went(sent, f))...)
					wantLast(t, false, 0, append(back, went(sent, f))...)
				}
			}
			for _, sent := range []bool{true, false} {
				wantLast(t, true, protocol, append(l, went(sent, more(x.id, whole)))...)
				wantLast(t, false, protocol, append(back, went(sent, more(x.id, whole)))...)
			}
		})
	}
}

// TestPairsOfFrames: any two frames behind every situation, against the model.
func TestPairsOfFrames(t *testing.T) {
	for _, x := range situations() {
		l := met(x.log...)
		for _, client := range []bool{true, false} {
			if !client {
				l = turned(l)
			}
			for _, one := range framesOn(x.id) {
				for _, two := range framesOn(x.id) {
					for n := range 4 {
						hold(t, client, append(l, went(n&1 > 0, one), went(n&2 > 0, two)))
					}
				}
			}
		}
	}
}

// TestResets: of an idle stream, of a closed one, twice; of what was skipped.
func TestResets(t *testing.T) {
	for _, client := range []bool{true, false} {
		for _, id := range []int64{1, 2, 3, 100, top - 1, top} {
			wantBoth(t, client, protocol, append(met(), s(resets(id)))...)
		}
	}
	over := met(s(head(1, ends|whole)), g(head(1, ends|whole)))
	wantBoth(t, true, 0, append(over, s(resets(1)))...)
	wantBoth(t, true, 0, append(over, g(resets(1)))...)
	wantBoth(t, true, closing, append(over, s(resets(1)), s(resets(1)))...)
	wantBoth(t, true, closing, append(over, g(resets(1)), g(resets(1)))...)
	// Both ends may reset one stream, each once.
	crossed := append(over, s(resets(1)), g(resets(1)))
	wantBoth(t, true, 0, crossed...)
	wantBoth(t, true, closing, append(crossed, s(resets(1)))...)
	wantBoth(t, true, closing, append(crossed, g(resets(1)))...)
	// One that was reset is none of the next one's.
	next := met(s(head(1, whole)), s(resets(1)), s(head(3, whole)))
	wantBoth(t, true, 0, append(next, s(bytes(3, 0, 1)), g(head(3, whole)), s(resets(3)))...)
	wantBoth(t, true, closing, append(next, s(resets(3)), s(bytes(3, 0, 1)))...)
	// Any code may stand in it.
	for _, code := range []int64{0, 7, 1<<32 - 1} {
		f := resets(1)
		f.Code = code
		wantBoth(t, true, 0, append(met(s(head(1, whole))), s(f))...)
	}
}

// TestLateFrames: what crossed a reset that was sent may come, what crossed one that
// was got may be sent only where the chapter says so.
func TestLateFrames(t *testing.T) {
	shut := met(s(head(1, ends|whole)), g(promises(1, 2)), s(resets(1)), s(resets(2)))
	late := []api.Entry{g(head(1, whole)), g(bytes(1, 0, 5)), g(head(2, whole)), g(promises(1, 4)), g(bytes(2, ends, 5)), g(gives(1, 7)), g(bytes(1, ends, 0)), g(orders(1)), g(resets(1)), g(resets(2))}
	wantTaken(t, true, slices.Concat(shut, late)...)
	// Of such a stream the other end's rights are not counted any more.
	wantTaken(t, true, slices.Concat(shut, late[:8], late[:8][:2])...)
	// What comes on a stream that the other end has reset may not.
	for _, f := range framesOn(1)[:9] {
		if f.Type != promise {
			wantLast(t, true, closing, append(slices.Concat(shut, late), g(f))...)
		}
	}
	left := met(s(head(1, whole)), g(resets(1)))
	wantTaken(t, true, append(left, s(gives(1, 5)), s(gives(1, top)), s(resets(1)))...)
	wantLast(t, true, closing, append(left, s(gives(1, 5)), s(resets(1)), s(gives(1, 5)))...)
	wantLast(t, true, protocol, append(left, s(bytes(1, 0, 0)))...)
}

// TestOddAndEven: who may begin which stream.
func TestOddAndEven(t *testing.T) {
	for _, id := range []int64{1, 3, 99, top} {
		wantLast(t, true, 0, append(met(), s(head(id, whole)))...)
		wantLast(t, true, protocol, append(met(), g(head(id, whole)))...)
		wantLast(t, false, 0, append(met(), g(head(id, whole)))...)
		wantLast(t, false, protocol, append(met(), s(head(id, whole)))...)
	}
	for _, id := range []int64{2, 4, 100, top - 1} {
		for _, client := range []bool{true, false} {
			wantBoth(t, client, protocol, append(met(), s(head(id, whole)))...)
			wantBoth(t, client, protocol, append(met(), s(head(id, ends|whole)))...)
		}
	}
	// The numbers rise, and may leap.
	l := met(s(head(5, whole)), s(head(9, whole)))
	wantBoth(t, true, 0, append(l, s(head(11, whole)))...)
	wantLast(t, true, protocol, append(l, s(head(7, whole)))...)
	wantLast(t, false, closing, append(turned(l), g(head(7, whole)))...)
	wantBoth(t, true, 0, append(l, s(head(5, ends|whole)))...) // trailers
}
