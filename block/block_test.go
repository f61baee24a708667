package block_test

import (
	"fmt"
	"testing"

	"herald/api"
	"herald/block"
)

// wantPush pushes one frame and holds all that is answered against what is wanted.
func wantPush(t *testing.T, j *block.Joiner, f api.Frame, want told) {
	t.Helper()
	if x := push(j, f); !same(x, want) {
		t.Errorf("P12.1: Push(%s) = %v, want %v", shown(f), x, want)
	}
}

func goesOn() told { return told{busy: true} }

func isWhole(head api.Frame, text string) told {
	return told{whole: true, head: head, block: text}
}

func isBroken(fault api.Fault) told { return told{fault: fault} }

// wantBroken: P12.3: a broken one says its fault of every frame.
func wantBroken(t *testing.T, j *block.Joiner, fault api.Fault) {
	t.Helper()
	for range 2 {
		for _, f := range someFrames() {
			if x := push(j, f); !same(x, isBroken(fault)) {
				t.Fatalf("P12.3: broken by %v: Push(%s) = %v", fault, shown(f), x)
			}
		}
	}
}

// someFrames are of every type, with and without flags, on several streams.
func someFrames() []api.Frame {
	var list []api.Frame
	for kind := -1; kind <= 11; kind++ {
		for _, flags := range []int{0, 1, 4, 5, 8, 44, -1} {
			for _, stream := range []int64{0, 1, 3, greatest} {
				list = append(list, api.Frame{Type: kind, Flags: flags, Stream: stream, Data: "d"})
			}
		}
	}
	return append(list, api.Frame{}, headers(4, bytesOf(mostBlock+1)), continuation(4, bytesOf(mostBlock+1)))
}

func TestExampleOne(t *testing.T) {
	j := block.New()
	if j.Busy() {
		t.Error("P12.1: a new joiner is busy")
	}
	wantPush(t, j, headers(0, "ab"), goesOn())
	wantPush(t, j, continuation(0, "cd"), goesOn())
	wantPush(t, j, continuation(4, ""), isWhole(headers(4, ""), "abcd"))
	wantPush(t, j, headers(5, "x"), isWhole(headers(5, ""), "x"))
	wantPush(t, j, api.Frame{Stream: 1, Data: "d"}, told{})
}

func TestExampleTwo(t *testing.T) {
	for _, f := range []api.Frame{{Stream: 1}, of(3, continuation(0, "")), headers(4, "")} {
		j := block.New()
		wantPush(t, j, headers(0, "ab"), goesOn())
		wantPush(t, j, f, isBroken(protocolError))
		wantBroken(t, j, protocolError)
	}
	j := block.New()
	wantPush(t, j, continuation(4, ""), isBroken(protocolError))
	wantBroken(t, j, protocolError)
}

func TestExampleThree(t *testing.T) {
	big := bytesOf(131072)
	j := block.New()
	wantPush(t, j, headers(0, big), goesOn())
	wantPush(t, j, continuation(4, ""), isWhole(headers(4, ""), big))
	wantPush(t, j, headers(0, big), goesOn())
	wantPush(t, j, continuation(4, "x"), isBroken(tooMuch))
	wantBroken(t, j, tooMuch)
}

// wantPieces: what Split makes has these many bytes a frame, and is right besides.
func wantPieces(t *testing.T, head api.Frame, length int, size int64, pieces ...int) {
	t.Helper()
	text := bytesOf(length)
	frames, e := block.Split(head, text, size)
	if e != api.OK || len(frames) != len(pieces) {
		t.Errorf("P12.1: Split(%s, %d bytes, %d) = %s, %v, want pieces of %v", shown(head), length, size, shownAll(frames), e, pieces)
		return
	}
	for i, n := range pieces {
		want := continuationOrHead(head, i == 0, i == len(pieces)-1)
		want.Data, text = text[:n], text[n:]
		if !sameFrame(frames[i], want) {
			t.Errorf("P12.1: Split(%s, %d bytes, %d), frame %d: %s, want %s", shown(head), length, size, i, shown(frames[i]), shown(want))
		}
	}
	if text != "" {
		t.Fatalf("%d pieces of %d bytes are too few", len(pieces), length)
	}
}

func continuationOrHead(head api.Frame, first, last bool) api.Frame {
	f := api.Frame{Type: 9, Stream: head.Stream}
	if first {
		f = head
		f.Flags = without(f.Flags, endHeaders)
	}
	if last {
		f.Flags = with(f.Flags, endHeaders)
	}
	return f
}

func TestExampleFour(t *testing.T) {
	wantPieces(t, headers(1, ""), 16385, 16384, 16384, 1)
	wantPieces(t, headers(0, ""), 0, 16384, 0)
	wantPieces(t, promise(0, ""), 16384, 16384, 16380, 4)
	wantPieces(t, padTo(255, headers(8+32, "")), 20000, 16384, 16123, 3877)
}

// wantRefused: an error, and nothing beside it.
func wantRefused(t *testing.T, head api.Frame, length int, size int64, want api.Errno) {
	t.Helper()
	if frames, e := block.Split(head, bytesOf(length), size); e != want || frames != nil {
		t.Errorf("P12.1: Split(%s, %d bytes, %d) = %s, %d, want none, %d", shown(head), length, size, shownAll(frames), e, want)
	}
}

func TestExampleFive(t *testing.T) {
	wantRefused(t, api.Frame{Stream: 1}, 0, 16384, argError)
	wantRefused(t, headers(0, "x"), 0, 16384, argError)
	wantRefused(t, of(0, headers(0, "")), 0, 16384, argError)
	wantRefused(t, padTo(1, headers(0, "")), 0, 16384, argError)
	wantRefused(t, headers(0, ""), 0, 16383, argError)
	wantRefused(t, headers(0, ""), 0, 65537, argError)
	wantRefused(t, headers(0, ""), 131073, 16384, longError)
}

// TestLimits: the numbers that the model and the other tests go by are those of api.
func TestLimits(t *testing.T) {
	if mostBlock != api.MaxBlock || leastSize != api.MinFrame || mostSize != api.MaxFrame {
		t.Error("the limits are not the document's")
	}
	if argError != api.ErrArg || longError != api.ErrLong || protocolError.Code != api.ProtocolError || tooMuch.Code != api.EnhanceYourCalm {
		t.Error("the errors and codes are not the document's")
	}
}

// fullHead has every field that a frame can have, those too that no head frame has.
func fullHead(kind, flags int) api.Frame {
	return api.Frame{
		Type: kind, Flags: flags, Stream: 7, Dep: 3, Excl: true, Weight: 256, Code: 5, Last: 8,
		Params: []api.Param{{ID: 1, Value: 2}, {ID: 3, Value: 4}},
	}
}

// TestHeadAsItCame: P12.1: of a whole block the head frame has all that it came with, but its Data, and EndHeaders.
func TestHeadAsItCame(t *testing.T) {
	for _, kind := range []int{1, 5} {
		for _, flags := range []int{0, 1, 4, 5, 8, 32, 40, 44, 45, 2, 16, 64, 128, 255, 256, -1, -5, least, greatest} {
			head := padTo(9, fullHead(kind, flags))
			want := head
			want.Flags = with(flags, endHeaders)
			head.Data = "he"
			j := block.New()
			if !has(flags, endHeaders) {
				wantPush(t, j, head, goesOn())
				// What a CONTINUATION has beside its Data and this one flag is nothing to the block.
				wantPush(t, j, api.Frame{Type: 9, Flags: 251, Stream: 7, Data: "a", Pad: 3, Dep: 9, Last: 9, Params: []api.Param{{}}}, goesOn())
				wantPush(t, j, api.Frame{Type: 9, Flags: 255, Stream: 7, Data: "d", Weight: 1, Code: 9}, isWhole(want, "head"))
			} else {
				wantPush(t, j, head, isWhole(want, "he"))
			}
			wantPush(t, j, of(7, continuation(4, "")), isBroken(protocolError))
		}
	}
}

// TestStreamsOfBlocks: P12.1: a CONTINUATION goes on with its head frame's stream, whatever its number is.
func TestStreamsOfBlocks(t *testing.T) {
	ids := []int64{0, 1, 2, -1, 1 << 31, 1<<31 - 1, 1 << 32, 1<<32 + 1, least, greatest}
	for _, a := range ids {
		for _, b := range ids {
			for _, kind := range []int{1, 5} {
				j := block.New()
				wantPush(t, j, api.Frame{Type: kind, Stream: a, Data: "x"}, goesOn())
				if a == b {
					wantPush(t, j, of(b, continuation(4, "y")), isWhole(api.Frame{Type: kind, Flags: 4, Stream: a}, "xy"))
				} else {
					wantPush(t, j, of(b, continuation(4, "y")), isBroken(protocolError))
				}
			}
		}
	}
	// The promised stream is not the block's.
	j := block.New()
	wantPush(t, j, promise(0, "x"), goesOn())
	wantPush(t, j, of(2, continuation(4, "y")), isBroken(protocolError))
}

// TestEveryFrame: P12.1, P12.3: every frame at a joiner that is idle from the start, idle again, in the middle, in the middle behind a CONTINUATION, broken by either fault.
func TestEveryFrame(t *testing.T) {
	befores := map[string][]api.Frame{
		"new":                nil,
		"idle again":         {headers(0, "a"), continuation(4, "b"), promise(4, "c"), {Type: 6, Data: "12345678"}},
		"HEADERS":            {headers(0, "a")},
		"PUSH_PROMISE":       {promise(1, "a")},
		"HEADERS, no bytes":  {headers(0, "")},
		"CONTINUATION":       {headers(0, "a"), continuation(0, "b")},
		"second block":       {headers(4, "a"), promise(0, ""), continuation(0, "")},
		"full":               {headers(0, "a"), continuation(0, bytesOf(mostBlock-1))},
		"broken":             {continuation(0, "")},
		"broken in a middle": {headers(0, "a"), headers(0, "a")},
		"too long":           {headers(0, "a"), continuation(0, bytesOf(mostBlock))},
		"too long at once":   {promise(4, bytesOf(mostBlock+1))},
	}
	for name, before := range befores {
		for _, f := range someFrames() {
			j, m := block.New(), &model{}
			for _, b := range append(append([]api.Frame(nil), before...), f, continuation(4, "z"), headers(4, "y")) {
				if x, want := push(j, b), m.push(b); !same(x, want) {
					t.Errorf("P12.1: %s, then %s: Push(%s) = %v, want %v", name, shown(f), shown(b), x, want)
				}
			}
			if t.Failed() {
				return
			}
		}
	}
}

// TestNothingBetween: P12.3: in the middle of a block all but its stream's CONTINUATION breaks, whatever it has; at an idle one no frame but a CONTINUATION does.
func TestNothingBetween(t *testing.T) {
	kinds := []int{least, -1, 256 + 1, 256 + 9, 1 << 32, 1<<32 + 9, greatest}
	for kind := range 256 {
		kinds = append(kinds, kind)
	}
	for _, kind := range kinds {
		for _, flags := range []int{0, 4, 255} {
			for _, stream := range []int64{0, 1, 2} {
				f := api.Frame{Type: kind, Flags: flags, Stream: stream}
				if kind != 9 || stream != 1 {
					j := block.New()
					wantPush(t, j, headers(0, "a"), goesOn())
					wantPush(t, j, f, isBroken(protocolError))
					wantPush(t, j, continuation(4, ""), isBroken(protocolError))
				}
				j := block.New()
				switch x := push(j, f); {
				case kind == 9:
					if !same(x, isBroken(protocolError)) {
						t.Errorf("P12.3: ahead of a block Push(%s) = %v", shown(f), x)
					}
				case kind != 1 && kind != 5:
					if !same(x, told{}) {
						t.Errorf("P12.1: at an idle joiner Push(%s) = %v", shown(f), x)
					}
					wantPush(t, j, headers(4, "h"), isWhole(headers(4, ""), "h"))
				}
			}
		}
		if t.Failed() {
			return
		}
	}
}

// TestFirstCaseHolds: P12.1: where two cases hold, the first one's is answered.
func TestFirstCaseHolds(t *testing.T) {
	over := bytesOf(mostBlock + 1)
	for _, f := range []api.Frame{
		{Stream: 1, Data: over}, headers(4, over), promise(4, over), of(3, continuation(4, over)),
	} {
		j := block.New()
		wantPush(t, j, headers(0, "a"), goesOn())
		wantPush(t, j, f, isBroken(protocolError))
	}
	j := block.New()
	wantPush(t, j, continuation(4, over), isBroken(protocolError))
	wantPush(t, j, headers(4, over), isBroken(protocolError))
	j = block.New()
	wantPush(t, j, headers(4, over), isBroken(tooMuch))
	wantPush(t, j, continuation(4, ""), isBroken(tooMuch))
	// What is no piece of a block may be as long as it likes.
	j = block.New()
	for _, kind := range []int{0, 2, 4, 6, 7, 8, 10, 255, -1} {
		wantPush(t, j, api.Frame{Type: kind, Flags: 4, Stream: 1, Data: over}, told{})
	}
	wantPush(t, j, headers(4, "h"), isWhole(headers(4, ""), "h"))
}

// TestMostBytes: P12.1, P12.4: the limit, at it and one above it, in one frame and in several, with the end and without.
func TestMostBytes(t *testing.T) {
	for _, head := range []api.Frame{headers(0, ""), promise(0, "")} {
		for _, cuts := range [][]int{{}, {0}, {1}, {mostBlock}, {mostBlock - 1}, {16384, 32768, 65536}, {65536, 65536}, {0, 0, 1, mostBlock}} {
			for _, n := range []int{mostBlock - 1, mostBlock, mostBlock + 1} {
				for _, end := range []int{0, endHeaders} {
					name := fmt.Sprintf("P12.4: %d bytes cut at %v, the last with the flags %d", n, cuts, end)
					x := last(pieces(head, bytesOf(n), cuts, end))
					want := goesOn()
					switch {
					case n > mostBlock:
						want = isBroken(tooMuch)
					case end == endHeaders:
						want = isWhole(head, bytesOf(n))
						want.head.Flags |= endHeaders
					}
					if !same(x, want) {
						t.Errorf("%s: %v, want %v", name, x, want)
					}
				}
			}
		}
	}
}

// TestFullBlocksInTurn: P12.4: what one block had does not count for the next, and a full one takes pieces of no bytes for ever.
func TestFullBlocksInTurn(t *testing.T) {
	j, full := block.New(), bytesOf(mostBlock)
	for range 3 {
		wantPush(t, j, headers(0, full[:70000]), goesOn())
		wantPush(t, j, continuation(0, full[70000:]), goesOn())
		for range 1000 {
			wantPush(t, j, continuation(0, ""), goesOn())
		}
		wantPush(t, j, continuation(4, ""), isWhole(headers(4, ""), full))
		wantPush(t, j, headers(4, full), isWhole(headers(4, ""), full))
	}
	wantPush(t, j, headers(4, ""), isWhole(headers(4, ""), ""))
}
