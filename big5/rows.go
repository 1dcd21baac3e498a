package big5

import "diacritic/run"

// leads are the first bytes of all rows, by rising numbers.
const leads = "\x88\xa1\xa3\xa4\xa5"

// marks are the signs of the row A1.
const marks = "" +
	"\u3000\uff0c\u3001\u3002\uff0e\u2022\uff1b\uff1a\uff1f\uff01\ufe30\u2026\u2025\ufe50\uff64\ufe52" +
	"\u00b7\ufe54\ufe55\ufe56\ufe57\uff5c\u2013\ufe31\u2014\ufe33\u2574\ufe34\ufe4f\uff08\uff09\ufe35" +
	"\ufe36\uff5b\uff5d\ufe37\ufe38\u3014\u3015\ufe39\ufe3a\u3010\u3011\ufe3b\ufe3c\u300a\u300b\ufe3d" +
	"\ufe3e\u3008\u3009\ufe3f\ufe40\u300c\u300d\ufe41\ufe42\u300e\u300f\ufe43\ufe44\ufe59\ufe5a\ufe5b" +
	"\ufe5c\ufe5d\ufe5e\u2018\u2019\u201c\u201d\u301d\u301e\u2035\u2032\uff03\uff06\uff0a\u203b\u00a7" +
	"\u3003\u25cb\u25cf\u25b3\u25b2\u25ce\u2606\u2605\u25c7\u25c6\u25a1\u25a0\u25bd\u25bc\u32a3\u2105" +
	"\u203e\uffe3\uff3f\u02cd\ufe49\ufe4a\ufe4d\ufe4e\ufe4b\ufe4c\ufe5f\ufe60\ufe61\uff0b\uff0d\u00d7" +
	"\u00f7\u00b1\u221a\uff1c\uff1e\uff1d\u2266\u2267\u2260\u221e\u2252\u2261\ufe62\ufe63\ufe64\ufe65" +
	"\ufe66\u223c\u2229\u222a\u22a5\u2220\u221f\u22bf\u33d2\u33d1\u222b\u222e\u2235\u2234\u2640\u2642" +
	"\u2641\u2609\u2191\u2193\u2190\u2192\u2196\u2197\u2199\u2198\u2225\u2223\uff0f"

// letters are the signs of the row A3.
const letters = "" +
	"\uff57\uff58\uff59\uff5a\u0391\u0392\u0393\u0394\u0395\u0396\u0397\u0398\u0399\u039a\u039b\u039c" +
	"\u039d\u039e\u039f\u03a0\u03a1\u03a3\u03a4\u03a5\u03a6\u03a7\u03a8\u03a9\u03b1\u03b2\u03b3\u03b4" +
	"\u03b5\u03b6\u03b7\u03b8\u03b9\u03ba\u03bb\u03bc\u03bd\u03be\u03bf\u03c0\u03c1\u03c3\u03c4\u03c5" +
	"\u03c6\u03c7\u03c8\u03c9\u3105\u3106\u3107\u3108\u3109\u310a\u310b\u310c\u310d\u310e\u310f\u3110" +
	"\u3111\u3112\u3113\u3114\u3115\u3116\u3117\u3118\u3119\u311a\u311b\u311c\u311d\u311e\u311f\u3120" +
	"\u3121\u3122\u3123\u3124\u3125\u3126\u3127\u3128\u3129\u02d9\u02c9\u02ca\u02c7\u02cb"

// chinese are the signs of the row A4.
const chinese = "" +
	"一乙丁七乃九了二人儿入八几刀刁力" +
	"匕十卜又三下丈上丫丸凡久么也乞于" +
	"亡兀刃勺千叉口土士夕大女子孑孓寸" +
	"小尢尸山川工己已巳巾干廾弋弓才丑" +
	"丐不中丰丹之尹予云井互五亢仁什仃" +
	"仆仇仍今介仄元允內六兮公冗凶分切" +
	"刈勻勾勿化匹午升卅卞厄友及反壬天" +
	"夫太夭孔少尤尺屯巴幻廿弔引心戈戶" +
	"手扎支文斗斤方日曰月木欠止歹毋比" +
	"毛氏水火爪父爻片牙牛犬王丙"

// moreChinese are the signs of the row A5.
const moreChinese = "" +
	"世丕且丘主乍乏乎以付仔仕他仗代令" +
	"仙仞充兄冉冊冬凹出凸刊加功包匆北" +
	"匝仟半卉卡占卯卮去可古右召叮叩叨" +
	"叼司叵叫另只史叱台句叭叻四囚外央" +
	"失奴奶孕它尼巨巧左市布平幼弁弘弗" +
	"必戊打扔扒扑斥旦朮本未末札正母民" +
	"氐永汁汀氾犯玄玉瓜瓦甘生用甩田由" +
	"甲申疋白皮皿目矛矢石示禾穴立丞丟" +
	"乒乓乩亙交亦亥仿伉伙伊伕伍伐休伏" +
	"仲件任仰仳份企伋光兇兆先全"

// row is the signs of a first byte that stand alone, by cells.
func row(lead byte) []run.Piece {
	switch lead {
	case 0x88:
		// Between these stand cells of two signs at once.
		return []run.Piece{
			from(0x56, "\u0100\u00c1\u01cd\u00c0\u0112\u00c9\u011a\u00c8\u014c\u00d3\u01d1\u00d2"),
			from(0x63, "\u1ebe"),
			from(0x65, "\u1ec0\u00ca\u0101\u00e1\u01ce\u00e0\u0251\u0113\u00e9\u011b\u00e8\u012b\u00ed\u01d0\u00ec\u014d"),
			from(0x75, "\u00f3\u01d2\u00f2\u016b\u00fa\u01d4\u00f9\u01d6\u01d8\u01da"),
			from(0xA1, "\u01dc\u00fc"),
			from(0xA4, "\u1ebf"),
			from(0xA6, "\u1ec1\u00ea\u0261"),
		}
	case 0xA1:
		return []run.Piece{from(firstLow, marks)}
	case 0xA3:
		return []run.Piece{from(firstLow, letters)}
	case 0xA4:
		return []run.Piece{from(firstLow, chinese)}
	case 0xA5:
		return []run.Piece{from(firstLow, moreChinese)}
	}
	return nil
}

// from is signs in a row's cells, from that of a second byte on.
func from(second byte, signs string) run.Piece {
	cell, _ := cellOf(second)
	return run.List(cell, signs)
}
