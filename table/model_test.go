package table_test

import (
	"slices"
	"strconv"
	"strings"
)

// The model lets nothing go step by step: behind each Add and Resize it takes
// the greatest number of the newest entries whose sizes are together at most
// max, by trying all numbers; and it answers by going through all that there is
// with an index.

type pair struct{ name, value string }

func (p pair) size() int64 { return int64(32 + len(p.name+p.value)) }

type model struct {
	max    int64
	moving []pair // the oldest first
}

func sum(list []pair) int64 {
	n := int64(0)
	for _, p := range list {
		n += p.size()
	}
	return n
}

// lastOnes tells the longest end of list whose size is at most max.
func lastOnes(list []pair, max int64) []pair {
	for from := range list {
		if sum(list[from:]) <= max {
			return slices.Clone(list[from:])
		}
	}
	return nil
}

func (m *model) add(name, value string) {
	m.moving = lastOnes(append(slices.Clone(m.moving), pair{name, value}), m.max)
}

// resize tells whether max is one.
func (m *model) resize(max int64) bool {
	if max < 0 || max > 65536 {
		return false
	}
	m.max = max
	m.moving = lastOnes(m.moving, max)
	return true
}

func (m *model) copy() *model { return &model{m.max, slices.Clone(m.moving)} }

// all has the entry with the index i at i; at 0 none.
func (m *model) all() []pair {
	list := append(make([]pair, 1), fixedPairs...)
	for i := range m.moving {
		list = append(list, m.moving[len(m.moving)-1-i])
	}
	return list
}

func (m *model) find(name, value string) (int, bool) {
	var whole, named []int
	for i, p := range m.all() {
		if i > 0 && p == (pair{name, value}) {
			whole = append(whole, i)
		}
		if i > 0 && p.name == name {
			named = append(named, i)
		}
	}
	if len(whole) > 0 {
		return slices.Min(whole), true
	}
	if len(named) > 0 {
		return slices.Min(named), false
	}
	return 0, false
}

var fixedPairs = readFixed()

func readFixed() []pair {
	var list []pair
	for i, line := range strings.Split(strings.TrimSpace(fixedRows), "\n") {
		row := strings.Split(line, "|")
		if row[0] != strconv.Itoa(i+1) {
			panic("a row is missing ahead of " + line)
		}
		list = append(list, pair{row[1], row[2]})
	}
	return list
}

// fixedRows has the chapter's rows: index, name, value.
const fixedRows = `
1|:authority|
2|:method|GET
3|:method|POST
4|:path|/
5|:path|/index.html
6|:scheme|http
7|:scheme|https
8|:status|200
9|:status|204
10|:status|206
11|:status|304
12|:status|400
13|:status|404
14|:status|500
15|accept-charset|
16|accept-encoding|gzip, deflate
17|accept-language|
18|accept-ranges|
19|accept|
20|access-control-allow-origin|
21|age|
22|allow|
23|authorization|
24|cache-control|
25|content-disposition|
26|content-encoding|
27|content-language|
28|content-length|
29|content-location|
30|content-range|
31|content-type|
32|cookie|
33|date|
34|etag|
35|expect|
36|expires|
37|from|
38|host|
39|if-match|
40|if-modified-since|
41|if-none-match|
42|if-range|
43|if-unmodified-since|
44|last-modified|
45|link|
46|location|
47|max-forwards|
48|proxy-authenticate|
49|proxy-authorization|
50|range|
51|referer|
52|refresh|
53|retry-after|
54|server|
55|set-cookie|
56|strict-transport-security|
57|transfer-encoding|
58|user-agent|
59|vary|
60|via|
61|www-authenticate|
`
