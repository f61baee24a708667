package block_test

import (
	"math/rand"
	"runtime"
	"slices"
	"sync"
	"testing"

	"herald/api"
	"herald/block"
)

// pieces are a head frame and CONTINUATIONs with the text cut at places that rise; the last of them has the flags end.
func pieces(head api.Frame, text string, cuts []int, end int) []api.Frame {
	var frames []api.Frame
	from := 0
	for _, at := range append(slices.Clone(cuts), len(text)) {
		f := api.Frame{Type: 9, Stream: head.Stream, Data: text[from:min(at, len(text))]}
		if len(frames) == 0 {
			data := f.Data
			f = head
			f.Data = data
		}
		frames, from = append(frames, f), min(at, len(text))
	}
	frames[len(frames)-1].Flags |= end
	return frames
}

// last is what the last of the frames is told, at a new joiner; the others go on.
func last(frames []api.Frame) told {
	j := block.New()
	for i, f := range frames {
		x := push(j, f)
		if i == len(frames)-1 || !same(x, goesOn()) {
			return x
		}
	}
	return told{}
}

// TestAllCuts: P12.4: small blocks cut at every set of places, with up to two pieces of no bytes at each cut and at both ends.
func TestAllCuts(t *testing.T) {
	text := bytesOf(5)
	for _, head := range []api.Frame{headers(0, ""), promise(0, ""), headers(1, ""), padTo(3, promise(8, ""))} {
		for n := range len(text) + 1 {
			want := last(pieces(head, text[:n], nil, endHeaders))
			if !want.whole || want.block != text[:n] {
				t.Fatalf("P12.1: %d bytes in one frame: %v", n, want)
			}
			// How often it is cut at each place, 0 to 3 times: a number of so many digits.
			all := 1
			for range n + 1 {
				all *= 4
			}
			for number := range all {
				var cuts []int
				for at, rest := 0, number; at <= n; at, rest = at+1, rest/4 {
					for range rest % 4 {
						cuts = append(cuts, at)
					}
				}
				if x := last(pieces(head, text[:n], cuts, endHeaders)); !same(x, want) {
					t.Fatalf("P12.4: %d bytes cut at %v: %v, want %v", n, cuts, x, want)
				}
			}
		}
	}
}

// TestLongCuts: P12.4: long blocks, cut at random, and byte by byte.
func TestLongCuts(t *testing.T) {
	r := rand.New(rand.NewSource(4))
	full := bytesOf(mostBlock)
	for range 60 {
		text := full[:r.Intn(mostBlock+1)]
		var cuts []int
		for range r.Intn(40) {
			cuts = append(cuts, r.Intn(len(text)+1))
		}
		slices.Sort(cuts)
		if x := last(pieces(headers(1, ""), text, cuts, endHeaders)); !same(x, isWhole(headers(5, ""), text)) {
			t.Fatalf("P12.4: %d bytes cut at %v: %v", len(text), cuts, x)
		}
	}
	var everywhere []int
	for at := range mostBlock {
		everywhere = append(everywhere, at)
	}
	if x := last(pieces(headers(0, ""), full, everywhere, endHeaders)); !same(x, isWhole(headers(4, ""), full)) {
		t.Errorf("P12.4: byte by byte: %v", x)
	}
	if x := last(pieces(headers(0, ""), full+"x", everywhere, endHeaders)); !same(x, isBroken(tooMuch)) {
		t.Errorf("P12.4: byte by byte, and one more with the last: %v", x)
	}
}

// TestSplitsThroughOne: P12.2: one joiner takes the frames of many Splits, with other frames between the blocks.
func TestSplitsThroughOne(t *testing.T) {
	r := rand.New(rand.NewSource(3))
	j, text, many := block.New(), bytesOf(mostBlock), heads()
	for range 150 {
		head := many[r.Intn(len(many))]
		part := text[:r.Intn(mostBlock+1)]
		frames, e := block.Split(head, part, leastSize+r.Int63n(mostSize-leastSize+1))
		if e != api.OK {
			t.Fatalf("P12.1: Split(%s, %d bytes): %d", shown(head), len(part), e)
		}
		wantBack(t, j, head, part, frames)
		for range r.Intn(3) {
			wantPush(t, j, api.Frame{Type: []int{0, 2, 3, 4, 6, 7, 8, 10}[r.Intn(8)], Flags: r.Intn(256), Stream: head.Stream, Data: "d"}, told{})
		}
		if t.Failed() {
			return
		}
	}
}

// randomPiece goes on with a block, and ends it now and then; in a long script it may have many bytes.
func randomPiece(r *rand.Rand, long bool) api.Frame {
	f := api.Frame{Type: 9, Stream: 1, Data: bytesOf(r.Intn(4)), Pad: r.Intn(3), Last: r.Int63n(3)}
	if long && r.Intn(3) == 0 {
		f.Data = bytesOf(r.Intn(mostBlock / 3))
	}
	if r.Intn(4) == 0 {
		f.Flags = []int{4, 5, 255, -1, 251, 3}[r.Intn(6)]
	}
	return f
}

// randomScript goes by what the model says: it begins blocks, or does something else, where it is idle, and goes on where it is not; one frame in so many is any.
func randomScript(r *rand.Rand, n int, long bool, rare int) []api.Frame {
	m, busy := &model{}, false
	for range n {
		f := randomPiece(r, long)
		if !busy {
			f.Type = []int{1, 5, 1, 5, 1, 5, 0, 4, 8, 10}[r.Intn(10)]
			f.Params = []api.Param{{ID: r.Intn(3), Value: r.Int63n(3)}}[:r.Intn(2)]
		}
		switch r.Intn(2 * rare) {
		case 0:
			f.Stream = r.Int63n(3)
		case 1:
			f.Type = r.Intn(12)
		}
		busy = m.push(f).busy
	}
	return m.pushed
}

// TestLongScripts: P12.1: scripts of many frames against the model.
func TestLongScripts(t *testing.T) {
	r := rand.New(rand.NewSource(1))
	whole, protocol, long := 0, 0, 0
	for i := range 400 {
		frames := randomScript(r, 10+r.Intn(60), i%8 == 0, 1+r.Intn(100))
		j, m := block.New(), &model{}
		for i, f := range frames {
			x, want := push(j, f), m.push(f)
			if !same(x, want) {
				t.Fatalf("P12.1: behind %s: Push(%s) = %v, want %v", shownAll(frames[:i]), shown(f), x, want)
			}
			switch {
			case x.whole:
				whole++
			case x.fault == protocolError:
				protocol++
			case x.fault == tooMuch:
				long++
			}
		}
	}
	if whole < 1000 || protocol < 1000 || long < 20 {
		t.Errorf("the scripts tell %d whole blocks, %d and %d faults: too few of one kind", whole, protocol, long)
	}
}

// shortFrames are those of which the short scripts are made.
func shortFrames() []api.Frame {
	return []api.Frame{
		headers(0, "a"), headers(4, "b"), promise(0, "c"), promise(4, ""), of(3, headers(0, "")),
		continuation(0, "d"), continuation(0, ""), continuation(4, "e"), of(3, continuation(4, "f")), of(3, continuation(0, "g")),
		{Stream: 1, Flags: 5, Data: "h"}, {Type: 4},
	}
}

// TestShortScripts: P12.1, P12.3: all scripts of four frames.
func TestShortScripts(t *testing.T) {
	list := shortFrames()
	n := len(list)
	for number := range n * n * n * n {
		j, m := block.New(), &model{}
		for rest, i := number, 0; i < 4; rest, i = rest/n, i+1 {
			f := list[rest%n]
			if x, want := push(j, f), m.push(f); !same(x, want) {
				t.Fatalf("P12.1: behind %s: Push(%s) = %v, want %v", shownAll(m.pushed[:i]), shown(f), x, want)
			}
		}
	}
}

// TestSideBySide: P12.5: joiners in turns answer as each by itself, broken ones too.
func TestSideBySide(t *testing.T) {
	r := rand.New(rand.NewSource(2))
	for range 100 {
		scripts := [][]api.Frame{randomScript(r, 30, false, 100), randomScript(r, 30, false, 10), randomScript(r, 30, false, 30)}
		var js []*block.Joiner
		var ms []*model
		for range scripts {
			js, ms = append(js, block.New()), append(ms, &model{})
		}
		at := make([]int, len(scripts))
		for range 60 {
			k := r.Intn(len(scripts))
			if at[k] == len(scripts[k]) {
				continue
			}
			f := scripts[k][at[k]]
			at[k]++
			if x, want := push(js[k], f), ms[k].push(f); !same(x, want) {
				t.Fatalf("P12.5: joiner %d: Push(%s) = %v, want %v", k, shown(f), x, want)
			}
		}
	}
}

// TestAtOnce: P12.5: joiners of several goroutines, and Splits of one head frame, know nothing of one another.
func TestAtOnce(t *testing.T) {
	r := rand.New(rand.NewSource(5))
	scripts := [][]api.Frame{randomScript(r, 50, false, 20), randomScript(r, 50, false, 100), randomScript(r, 50, true, 100), randomScript(r, 50, true, 20)}
	head, text := fullHead(1, 0), bytesOf(50000)
	var group sync.WaitGroup
	for _, frames := range scripts {
		group.Go(func() {
			j, m := block.New(), &model{}
			for _, f := range frames {
				if x, want := push(j, f), m.push(f); !same(x, want) {
					t.Errorf("P12.5: Push(%s) = %v, want %v", shown(f), x, want)
				}
			}
			wantSplit(t, head, text, leastSize)
		})
	}
	group.Wait()
}

// writeOver fills a list, its spare room too, with what stands nowhere else.
func writeOver(list []api.Param) {
	list = list[:cap(list)]
	for i := range list {
		list[i] = api.Param{ID: -77, Value: -77}
	}
}

// spare is a list with room behind its end.
func spare() []api.Param {
	return append(make([]api.Param, 0, 8), api.Param{ID: 1, Value: 2}, api.Param{ID: 3, Value: 4})
}

// TestWrittenOver: P12.5: the lists of a frame that was pushed, and of one that was answered, may be written over.
func TestWrittenOver(t *testing.T) {
	want := headers(4, "")
	want.Params = []api.Param{{ID: 1, Value: 2}, {ID: 3, Value: 4}}
	for _, ends := range []bool{true, false} {
		j := block.New()
		for range 3 {
			f := headers(0, "ab")
			f.Params = spare()
			var x told
			if ends {
				f.Flags = endHeaders
				x = push(j, f)
				writeOver(f.Params)
			} else {
				wantPush(t, j, f, goesOn())
				writeOver(f.Params)
				x = push(j, continuation(4, ""))
			}
			if !same(x, isWhole(want, "ab")) {
				t.Errorf("P12.5: behind writing over the pushed list: %v", x)
			}
			writeOver(x.head.Params)
		}
	}
}

// TestArgumentsStay: P12.5: neither Push nor Split changes a list that it was handed, nor its spare room.
func TestArgumentsStay(t *testing.T) {
	list := spare()
	before := slices.Clone(list[:cap(list)])
	f := headers(0, "ab")
	f.Params = list
	j := block.New()
	push(j, f)
	x := push(j, continuation(4, ""))
	writeOver(x.head.Params)
	f.Data = ""
	frames, _ := block.Split(f, bytesOf(40000), leastSize)
	for i := range frames {
		writeOver(frames[i].Params)
	}
	if !slices.Equal(list[:cap(list)], before) {
		t.Errorf("P12.5: the list that was handed in is %v", list[:cap(list)])
	}
}

// TestFramesWrittenOver: P12.5: frames that Split answered may be written over, in their spare room too: later answers and a joiner that took them show nothing of it.
func TestFramesWrittenOver(t *testing.T) {
	head, text := fullHead(5, 0), bytesOf(60000)
	head.Params = spare()
	want, _ := modelSplit(head, text, leastSize)
	for range 3 {
		frames, e := block.Split(head, text, leastSize)
		if e != api.OK || !sameFrames(frames, want) {
			t.Fatalf("P12.5: Split = %s, %d", shownAll(frames), e)
		}
		j := block.New()
		var x told
		for i := range frames {
			x = push(j, frames[i])
			writeOver(frames[i].Params)
			frames[i] = api.Frame{Type: 77, Data: "over"}
		}
		frames = frames[:cap(frames)]
		for i := range frames {
			frames[i] = api.Frame{Type: 77, Data: "over"}
		}
		back := head
		back.Flags = endHeaders
		if !same(x, isWhole(back, text)) {
			t.Errorf("P12.5: joined: %v", x)
		}
	}
}

// TestBlocksInARow: P12.5: a block that was answered stays as it was when the next ones come.
func TestBlocksInARow(t *testing.T) {
	j := block.New()
	first := push(j, headers(4, "abc"))
	push(j, headers(0, "xyz"))
	second := push(j, continuation(4, "w"))
	third := push(j, promise(4, "01234567"))
	if first.block != "abc" || second.block != "xyzw" || third.block != "01234567" {
		t.Errorf("P12.5: blocks in a row: %q, %q, %q", first.block, second.block, third.block)
	}
}

// TestKeepsNothing: an idle joiner has let go of its last block, and a broken one of all but its fault.
func TestKeepsNothing(t *testing.T) {
	const many = 200
	big := bytesOf(mostBlock)
	js := make([]*block.Joiner, many)
	before := heap()
	for i := range js {
		j := block.New()
		j.Push(headers(0, big))
		if i%2 == 0 {
			j.Push(continuation(4, ""))
		} else {
			j.Push(headers(0, ""))
		}
		js[i] = j
	}
	if after := heap(); after > before+many*mostBlock/10 {
		t.Errorf("%d joiners keep %d bytes", many, after-before)
	}
	runtime.KeepAlive(js)
}

func heap() uint64 {
	runtime.GC()
	var m runtime.MemStats
	runtime.ReadMemStats(&m)
	return m.HeapAlloc
}

// FuzzPush: three bytes a frame: its type and stream, its flags, how many bytes it has.
func FuzzPush(f *testing.F) {
	f.Add("\x11\x00\x02\x19\x00\x02\x19\x04\x00\x11\x05\x01\x10\x00\x01")
	f.Add("\x11\x00\x02\x39\x04\x00")
	f.Add("\x15\x00\xff\x19\x00\xff\x19\x04\xfe\x15\x04\x00")
	f.Add("\x11\x00\xff\x19\x00\xff\x19\x04\xfd\x19\x04\xfd")
	full := bytesOf(mostBlock)
	f.Fuzz(func(t *testing.T, script string) {
		j, m := block.New(), &model{}
		for ; len(script) >= 3 && len(m.pushed) < 60; script = script[3:] {
			n := int(script[2])
			if n >= 250 {
				n = mostBlock / 2 * (n - 250) / 5
			}
			fr := api.Frame{Type: int(script[0] % 16), Stream: int64(script[0] / 16), Flags: int(int8(script[1])), Data: full[:n], Last: int64(n)}
			if x, want := push(j, fr), m.push(fr); !same(x, want) {
				t.Fatalf("P12.1: behind %s: Push(%s) = %v, want %v", shownAll(m.pushed[:len(m.pushed)-1]), shown(fr), x, want)
			}
		}
	})
}
