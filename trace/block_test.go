package trace_test

import (
	"slices"
	"testing"

	"herald/api"
)

// cutBlocks has for each way a block can begin, at the end that sends it, the log up to
// the frame that begins it, with that frame.
func cutBlocks() map[string][]api.Entry {
	return map[string][]api.Entry{
		"a request":  met(s(head(1, ends))),
		"a response": met(g(head(1, ends|whole)), s(head(1, 0))),
		"a promise":  met(g(head(1, ends|whole)), s(api.Frame{Type: promise, Stream: 1, Last: 2})),
		"trailers":   met(s(head(1, whole)), s(bytes(1, 0, 3)), s(head(1, ends))),
	}
}

func sender(name string) bool { return name == "a request" || name == "trailers" }

// TestBlocks: a block of any number of frames, in both directions.
func TestBlocks(t *testing.T) {
	for name, l := range cutBlocks() {
		client := sender(name)
		wantBoth(t, client, 0, l...)
		wantBoth(t, client, 0, append(l, s(more(1, 0)))...)
		wantBoth(t, client, 0, append(l, s(more(1, whole)))...)
		wantBoth(t, client, 0, append(l, s(of(more(1, 0), 5)), s(more(1, 0)), s(of(more(1, whole), 7)))...)
		over := append(slices.Clone(l), s(more(1, whole)))
		wantBoth(t, client, 0, append(over, s(pings("12345678")))...)
		wantBoth(t, client, protocol, append(over, s(more(1, whole)))...)
		wantBoth(t, client, protocol, append(over, s(more(1, 0)))...)
	}
}

// TestInsideABlock: nothing of the same direction but its stream's CONTINUATION, and
// all of the other one.
func TestInsideABlock(t *testing.T) {
	for name, l := range cutBlocks() {
		client := sender(name)
		for _, f := range append(rightFrames(), list(param(3, 1)), more(3, whole), more(2, whole), more(3, 0), head(3, whole), promises(1, 4)) {
			if f.Type == continuation && f.Stream == 1 {
				continue
			}
			wantBoth(t, client, protocol, append(l, s(f))...)
			wantBoth(t, client, protocol, append(l, s(more(1, 0)), s(f))...)
		}
		for _, f := range []api.Frame{pings("12345678"), list(), gives(0, 5), orders(7), {Type: 99, Stream: 1}} {
			wantBoth(t, client, 0, append(l, g(f), s(more(1, 0)), g(f), s(more(1, whole)))...)
		}
	}
}

// TestTwoBlocks: each direction has its own, of one stream or of two.
func TestTwoBlocks(t *testing.T) {
	l := met(s(head(1, whole)), s(head(3, 0)), g(head(1, 0)))
	wantBoth(t, true, 0, append(l, s(more(3, 0)), g(more(1, 0)), s(more(3, whole)), g(more(1, whole)))...)
	wantBoth(t, true, 0, append(l, g(more(1, whole)), s(more(3, whole)))...)
	wantBoth(t, true, protocol, append(l, s(more(1, 0)))...)
	wantBoth(t, true, protocol, append(l, g(more(3, 0)))...)
	wantBoth(t, true, protocol, append(l, g(more(1, whole)), g(more(3, whole)))...)
	wantBoth(t, true, protocol, append(l, g(more(1, whole)), s(pings("12345678")))...)
	same := met(s(head(1, whole)), s(head(1, ends)), g(head(1, 0)))
	wantBoth(t, true, 0, append(same, s(more(1, 0)), g(more(1, whole)), s(more(1, whole)))...)
	// A promise's block goes on on the stream that it stands on.
	pushed := met(s(head(1, ends|whole)), g(api.Frame{Type: promise, Stream: 1, Last: 2}))
	wantBoth(t, true, 0, append(pushed, g(more(1, whole)))...)
	wantBoth(t, true, protocol, append(pushed, g(more(2, whole)))...)
	// A block that begins behind one that ended.
	wantBoth(t, true, 0, append(pushed, g(more(1, whole)), g(head(1, 0)), g(more(1, whole)), g(head(2, 0)), g(more(2, whole)))...)
	wantBoth(t, true, protocol, append(pushed, g(more(1, whole)), g(head(2, 0)), g(more(1, whole)))...)
}

// TestLateBlocks: what comes of a stream that was reset has its block all the same.
func TestLateBlocks(t *testing.T) {
	l := met(s(head(1, ends|whole)), s(resets(1)), g(head(1, 0)))
	wantTaken(t, true, l...)
	wantTaken(t, true, append(l, g(more(1, whole)), g(pings("12345678")))...)
	wantLast(t, true, protocol, append(l, g(pings("12345678")))...)
	late := met(s(head(1, ends|whole)), s(resets(1)), g(api.Frame{Type: promise, Stream: 1, Last: 2}))
	wantTaken(t, true, append(late, g(more(1, whole)), g(head(2, ends|whole)))...)
	wantLast(t, true, protocol, append(late, g(head(2, ends|whole)))...)
	// A block is not ended by the reset of its stream, which may come in its middle.
	mid := met(s(head(1, whole)), g(head(1, 0)), s(resets(1)))
	wantTaken(t, true, append(mid, g(more(1, 0)), g(more(1, whole)))...)
	wantLast(t, true, protocol, append(mid, g(resets(1)))...)
}

// TestLongBlocks: of api.MaxBlock bytes, and one more, however they are cut.
func TestLongBlocks(t *testing.T) {
	for name, begun := range cutBlocks() {
		client := sender(name)
		first := begun[len(begun)-1].F
		room := 16384
		if first.Type == promise {
			room -= 4
		}
		l := append(slices.Clone(begun[:len(begun)-1]), s(of(first, room)))
		left := 131072 - room
		for ; left > 16384; left -= 16384 {
			l = append(l, s(of(more(1, 0), 16384)))
		}
		wantBoth(t, client, 0, append(l, s(of(more(1, whole), left)))...)
		wantBoth(t, client, 0, append(l, s(of(more(1, 0), left)), s(more(1, 0)), s(more(1, whole)))...)
		wantBoth(t, client, 0, append(l, s(of(more(1, 0), left-1)), s(of(more(1, whole), 1)))...)
		wantBoth(t, client, calm, append(l, s(of(more(1, 0), left)), s(of(more(1, 0), 1)))...)
		wantBoth(t, client, calm, append(l, s(of(more(1, 0), left)), s(of(more(1, whole), 1)))...)
		if left < 16384 {
			wantBoth(t, client, calm, append(l, s(of(more(1, whole), left+1)))...)
		}
		// The next block begins at nothing.
		next := append(slices.Clone(l), s(of(more(1, whole), left)))
		if name == "a response" {
			wantBoth(t, client, 0, append(next, s(of(head(1, ends), 16384)), s(of(more(1, whole), 16384)))...)
		}
	}
}

// TestBlocksOfGreatFrames: neither padding nor a priority is of the block.
func TestBlocksOfGreatFrames(t *testing.T) {
	l := []api.Entry{s(list()), g(list(param(5, 65536))), s(acks())}
	first := of(head(1, ends|padded|32), 65536-261)
	first.Pad, first.Weight = 255, 1
	wantBoth(t, true, 0, append(l, s(first), s(of(more(1, 0), 65536)), s(of(more(1, whole), 261)))...)
	wantBoth(t, true, calm, append(l, s(first), s(of(more(1, 0), 65536)), s(of(more(1, whole), 262)))...)
	wantBoth(t, true, 0, append(l, s(of(head(1, ends), 65536)), s(of(more(1, 0), 65536)), s(more(1, whole)))...)
	wantBoth(t, true, calm, append(l, s(of(head(1, ends), 65536)), s(of(more(1, 0), 65536)), s(of(more(1, 0), 1)))...)
	// Each way has its own bytes.
	both := append(l, g(acks()), s(of(head(1, 0), 65536)), g(of(head(1, 0), 16384)), s(of(more(1, 0), 65536)), g(of(more(1, 0), 16384)))
	wantBoth(t, true, 0, append(both, g(more(1, whole)), s(more(1, whole)))...)
}
