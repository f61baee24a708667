package cache_test

import (
	"fmt"
	"slices"
	"strings"
	"testing"

	"herald/api"
	"herald/cache"
	"herald/lists"
	"herald/vary"
)

// both are a cache and its model, under the same calls.
type both struct {
	c    *cache.Cache
	m    *model
	done []string

	// How often each stream was kept, and given or told as gone, by the cache's own
	// words.
	in, out map[int64]int
}

const mostShownCalls = 12

// history is the calls so far, as an error tells them.
func (b *both) history() string {
	from := max(0, len(b.done)-mostShownCalls)
	return fmt.Sprintf("%s, call %d: %s", shownConf(b.m.conf), len(b.done), strings.Join(b.done[from:], ", "))
}

func (b *both) note(format string, a ...any) { b.done = append(b.done, fmt.Sprintf(format, a...)) }

// holdNew holds New against the model; nil: there is no such cache.
func holdNew(t *testing.T, x api.Conf) *both {
	t.Helper()
	c, e := cache.New(x)
	want := modelNew(x)
	if e != want || (c == nil) != (want != api.OK) {
		t.Fatalf("P19.1: %s: %d, nil %v, want %d", shownConf(x), e, c == nil, want)
	}
	if c == nil {
		return nil
	}
	b := &both{c: c, m: &model{conf: x}, in: map[int64]int{}, out: map[int64]int{}}
	b.holdLooks(t)
	return b
}

func wantCache(t *testing.T, entries, bytes, life int64) *both {
	t.Helper()
	b := holdNew(t, conf(entries, bytes, life))
	if b == nil {
		t.Fatalf("P19.1: %s is no cache", shownConf(conf(entries, bytes, life)))
	}
	return b
}

func (b *both) holdStore(t *testing.T, promised api.Request, r api.Response, stream, tick int64) (bool, []int64) {
	t.Helper()
	b.note("Store(%s, %s, %d, %d)", lists.ShownRequest(promised), lists.ShownResponse(r), stream, tick)
	wantKept, wantTold := b.m.store(promised, r, stream, tick)
	kept, told := b.c.Store(promised, r, stream, tick)
	if kept != wantKept || !slices.Equal(told, wantTold) {
		t.Fatalf("P19.1: %s: %v, %v, want %v, %v", b.history(), kept, told, wantKept, wantTold)
	}
	if kept {
		b.in[stream]++
	}
	b.countOut(told...)
	b.holdLooks(t)
	return kept, told
}

func (b *both) holdClaim(t *testing.T, asked api.Request, tick int64) (api.Response, int64, bool) {
	t.Helper()
	b.note("Claim(%s, %d)", lists.ShownRequest(asked), tick)
	lay := b.m.entries()
	want, wantStream, wantIs := b.m.claim(asked, tick)
	r, stream, is := b.c.Claim(asked, tick)
	if !lists.SameResponse(r, want) || stream != wantStream || is != wantIs {
		t.Fatalf("P19.1: %s: %s, %d, %v, want %s, %d, %v", b.history(), lists.ShownResponse(r), stream, is, lists.ShownResponse(want), wantStream, wantIs)
	}
	if is {
		b.countOut(stream)
		b.holdGiven(t, lay, asked, r, stream)
	}
	b.holdLooks(t)
	return r, stream, is
}

// holdGiven holds what was given to P19.3, by those that lay there.
func (b *both) holdGiven(t *testing.T, lay []*kept, asked api.Request, r api.Response, stream int64) {
	t.Helper()
	names, star := vary.Names(r)
	isStored := func(k *kept) bool {
		return lists.SameResponse(k.response, r) && k.stream == stream && vary.Match(k.promised, asked, names) && !b.m.isExpired(k)
	}
	i := slices.IndexFunc(lay, isStored)
	if i < 0 || star || asked.Body != "" {
		t.Fatalf("P19.3: %s: %s of stream %d is none that may be given", b.history(), lists.ShownResponse(r), stream)
	}
	if slices.ContainsFunc(lay[:i], func(k *kept) bool { return b.m.answers(k, asked) }) {
		t.Fatalf("P19.3: %s: an older one than %s of stream %d answers", b.history(), lists.ShownResponse(r), stream)
	}
}

func (b *both) holdHolds(t *testing.T, asked api.Request, tick int64) bool {
	t.Helper()
	b.note("Holds(%s, %d)", lists.ShownRequest(asked), tick)
	want := b.m.holds(asked, tick)
	got := b.c.Holds(asked, tick)
	if got != want {
		t.Fatalf("P19.1: %s: %v, want %v", b.history(), got, want)
	}
	b.holdLooks(t)
	return got
}

func (b *both) holdTick(t *testing.T, now int64) []int64 {
	t.Helper()
	b.note("Tick(%d)", now)
	want := b.m.tick(now)
	got := b.c.Tick(now)
	if !slices.Equal(got, want) {
		t.Fatalf("P19.5: %s: %v, want %v", b.history(), got, want)
	}
	b.countOut(got...)
	b.holdLooks(t)
	return got
}

func (b *both) countOut(streams ...int64) {
	for _, s := range streams {
		b.out[s]++
	}
}

// holdLooks holds Len and Bytes against the model, and to P19.2.
func (b *both) holdLooks(t *testing.T) {
	t.Helper()
	entries, bytes := b.c.Len(), b.c.Bytes()
	if l := b.m.entries(); entries != len(l) || bytes != sizeOf(l) {
		t.Fatalf("P19.1: %s: Len %d, Bytes %d, want %d, %d", b.history(), entries, bytes, len(l), sizeOf(l))
	}
	if int64(entries) > b.m.conf.Entries || bytes > b.m.conf.Bytes {
		t.Fatalf("P19.2: %s: Len %d, Bytes %d", b.history(), entries, bytes)
	}
	left := 0
	for stream, n := range b.in {
		left += n - b.out[stream]
	}
	for stream, n := range b.out {
		if n > b.in[stream] {
			t.Fatalf("P19.2: %s: stream %d was kept %d times, and went %d times", b.history(), stream, b.in[stream], n)
		}
	}
	if left != entries {
		t.Fatalf("P19.2: %s: %d were kept and didn't go, Len %d", b.history(), left, entries)
	}
}

// now is a tick that moves nothing.
const now = least

// look asks for everything that was ever kept, and for what is beside it.
func (b *both) look(t *testing.T, beside ...api.Request) {
	t.Helper()
	b.holdLooks(t)
	for _, k := range b.m.all {
		q := withBody(k.promised, "")
		if held := b.holdHolds(t, q, now); !held && k.fate == there && !b.m.isExpired(k) {
			t.Fatalf("P19.4: %s: stream %d doesn't answer what was promised with it", b.history(), k.stream)
		}
		beside = append(beside, withBody(q, "x"))
	}
	for _, q := range beside {
		b.holdHolds(t, q, now)
	}
}

// empty claims all that there is, one by one, and lets the expired ones go.
func (b *both) empty(t *testing.T) {
	t.Helper()
	b.look(t)
	for _, k := range b.m.entries() {
		b.holdClaim(t, withBody(k.promised, ""), now)
	}
	b.holdTick(t, now)
	if b.c.Len() != 0 || b.c.Bytes() != 0 {
		t.Fatalf("P19.4: %s: Len %d, Bytes %d behind all that is to be had", b.history(), b.c.Len(), b.c.Bytes())
	}
}

func (b *both) wantStore(t *testing.T, promised api.Request, r api.Response, stream, tick int64, want bool, wantTold ...int64) {
	t.Helper()
	if kept, told := b.holdStore(t, promised, r, stream, tick); kept != want || !slices.Equal(told, wantTold) {
		t.Errorf("P19.1: %s: %v, %v, want %v, %v", b.history(), kept, told, want, wantTold)
	}
}

func (b *both) wantClaim(t *testing.T, asked api.Request, tick int64, want api.Response, wantStream int64) {
	t.Helper()
	if r, stream, is := b.holdClaim(t, asked, tick); !lists.SameResponse(r, want) || stream != wantStream || !is {
		t.Errorf("P19.3: %s: %s, %d, %v, want %s, %d", b.history(), lists.ShownResponse(r), stream, is, lists.ShownResponse(want), wantStream)
	}
}

// wantGiven is wantClaim by the stream alone, asked by Holds ahead of it.
func (b *both) wantGiven(t *testing.T, asked api.Request, tick, want int64) {
	t.Helper()
	b.wantHolds(t, asked, tick, true)
	if _, stream, is := b.holdClaim(t, asked, tick); stream != want || !is {
		t.Errorf("P19.4: %s: %d, %v, want %d", b.history(), stream, is, want)
	}
}

// wantNone wants neither Holds nor Claim to find anything, and all to stay.
func (b *both) wantNone(t *testing.T, asked api.Request, tick int64) {
	t.Helper()
	b.wantHolds(t, asked, tick, false)
	entries, bytes := b.c.Len(), b.c.Bytes()
	if r, stream, is := b.holdClaim(t, asked, tick); !lists.SameResponse(r, api.Response{}) || stream != 0 || is {
		t.Errorf("P19.1: %s: %s, %d, %v, want zeros", b.history(), lists.ShownResponse(r), stream, is)
	}
	b.wantLooks(t, entries, bytes)
}

func (b *both) wantHolds(t *testing.T, asked api.Request, tick int64, want bool) {
	t.Helper()
	if got := b.holdHolds(t, asked, tick); got != want {
		t.Errorf("P19.1: %s: %v, want %v", b.history(), got, want)
	}
}

func (b *both) wantTick(t *testing.T, now int64, want ...int64) {
	t.Helper()
	if got := b.holdTick(t, now); !slices.Equal(got, want) {
		t.Errorf("P19.5: %s: %v, want %v", b.history(), got, want)
	}
}

func (b *both) wantLooks(t *testing.T, entries int, bytes int64) {
	t.Helper()
	if b.c.Len() != entries || b.c.Bytes() != bytes {
		t.Errorf("P19.1: %s: Len %d, Bytes %d, want %d, %d", b.history(), b.c.Len(), b.c.Bytes(), entries, bytes)
	}
}
